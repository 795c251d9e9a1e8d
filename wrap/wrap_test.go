package wrap

import (
	"bytes"
	"crypto/sha256"
	"encoding/hex"
	"math/rand"
	"slices"
	"strings"
	"testing"

	"apostille/api"
)

var sixes = bytes.Repeat([]byte{0xa6}, 8)

// expect fails unless a call told so.
func expect(t *testing.T, what string, got []byte, e api.Errno, want []byte) {
	t.Helper()
	if e != api.OK || !bytes.Equal(got, want) {
		t.Errorf("%s: %x, %v; want %x", what, short(got), e, short(want))
	}
}

// expectError fails unless a call told so, and nothing beside (P11.4).
func expectError(t *testing.T, what string, got []byte, e, want api.Errno) {
	t.Helper()
	if e != want || got != nil {
		t.Errorf("%s: %d bytes, %v; want %v", what, len(got), e, want)
	}
}

// expectBoth fails unless Wrap tells so, and Unwrap tells the way back.
func expectBoth(t *testing.T, kek, key, want []byte) {
	t.Helper()
	got, e := Wrap(kek, key)
	expect(t, "Wrap", got, e, want)
	got, e = Unwrap(kek, want)
	expect(t, "Unwrap", got, e, key)
}

// short is the first bytes of a text, as many as are worth a line.
func short(b []byte) []byte {
	return b[:min(len(b), 64)]
}

// unhex is bytes out of their digits, which may stand apart.
func unhex(t *testing.T, s string) []byte {
	t.Helper()
	b, err := hex.DecodeString(strings.ReplaceAll(s, " ", ""))
	if err != nil {
		t.Fatal(err)
	}
	return b
}

// counted is bytes from 0 on.
func counted(size int) []byte {
	b := make([]byte, size)
	for i := range b {
		b[i] = byte(i)
	}
	return b
}

func TestTheChaptersExamples(t *testing.T) {
	got, e := Wrap(make([]byte, 16), make([]byte, 8))
	expectError(t, "Wrap of a key of 8 bytes", got, e, api.ErrSize)
	got, e = Unwrap(make([]byte, 16), make([]byte, 24))
	expectError(t, "Unwrap of 24 bytes 0", got, e, api.ErrWrap)
}

// P11.1 and P11.2: keys that are wrapped, and the way back

// The examples of RFC 3394.
func TestKeysOfTheStandard(t *testing.T) {
	key := unhex(t, "00112233445566778899aabbccddeeff 000102030405060708090a0b0c0d0e0f")
	for _, x := range []struct {
		kekSize, size int
		want          string
	}{
		{16, 16, "1fa68b0a8112b447 aef34bd8fb5a7b82 9d3e862371d2cfe5"},
		{24, 16, "96778b25ae6ca435 f92b5b97c050aed2 468ab8a17ad84e5d"},
		{32, 16, "64e8c3f9ce0f5ba2 63e9777905818a2a 93c8191e7d6e8ae7"},
		{24, 24, "031d33264e15d332 68f24ec260743edc e1c6c7ddee725a93 6ba814915c6762d2"},
		{32, 24, "a8f9bc1612c68b3f f6e6f4fbe30e71e4 769c8b80a32cb895 8cd5d17d6b254da1"},
		{32, 32, "28c9f404c4b810f4 cbccb35cfb87f826 3f5786e2d80ed326 cbc7f0e71a99f43b fb988b9b7a02dd21"},
	} {
		expectBoth(t, counted(x.kekSize), key[:x.size], unhex(t, x.want))
	}
}

// Keys as long as they may be, wrapped by another program: the sums of what it told.
func TestTheLongestKeysElsewhere(t *testing.T) {
	for _, x := range []struct {
		kekSize, size int
		want          string
	}{
		{16, 4088, "572aa49fc6bfb830d765700abbe97ec44d2c37acd600bb6f36a6794a9be03aaa"},
		{16, 4096, "cd8a4fd1c61cb317672b2e90b3bed2b169672abd6f5b2374414ef27f479edb3c"},
		{24, 4088, "fdce2039dbf084db5d09cc2a95099d41b759f6a5cae3e69faf63f7cb3da75c77"},
		{24, 4096, "16db84cc650fa55239011d7cd59c05ab3c3917fede4bd25eaa214a8615473366"},
		{32, 4088, "0ee578f1103f0fcd0e1f8e89df0514d471ea2302f0f94d2cc2fa5309b77f5b3f"},
		{32, 4096, "2a8b5fa754097fff1afa5ee8e90c7120ebc234cdb9cad262a42adaee67c3d294"},
	} {
		kek, key := counted(x.kekSize), counted(x.size)
		wrapped, e := Wrap(kek, key)
		sum := sha256.Sum256(wrapped)
		expect(t, "sum of Wrap", sum[:], e, unhex(t, x.want))
		got, e := Unwrap(kek, wrapped)
		expect(t, "Unwrap", got, e, key)
	}
}

// Keys of every number of words of the first few, and around those whose steps' numbers take another byte's bits: 42 words take 252 steps, 43 take 258.
func TestKeysOfEachLength(t *testing.T) {
	r := rand.New(rand.NewSource(111))
	counts := []int{42, 43, 63, 64, 65, 85, 86, 127, 128, 129, 170, 171, 255, 256, 257, 341, 342, 511, 512}
	for count := 2; count <= 40; count++ {
		counts = append(counts, count)
	}
	for _, kekSize := range kekSizes {
		for _, count := range counts {
			kek, key := drawn(r.Int63(), kekSize), drawn(r.Int63(), 8*count)
			want := ruledWrap(t, kek, sixes, key)
			if len(want) != 8*count+8 {
				t.Fatalf("%d words: %d bytes by the rule", count, len(want))
			}
			expectBoth(t, kek, key, want)
		}
	}
}

// Keys of 0, of 255 and of the bytes that A begins with, and by such keys.
func TestKeysOfOneByteAllOver(t *testing.T) {
	for _, kekSize := range kekSizes {
		for _, x := range []byte{0, 1, 0x80, 0xa6, 0xff} {
			for _, y := range []byte{0, 1, 0x80, 0xa6, 0xff} {
				for _, size := range []int{16, 24, 48} {
					kek, key := bytes.Repeat([]byte{x}, kekSize), bytes.Repeat([]byte{y}, size)
					expectBoth(t, kek, key, ruledWrap(t, kek, sixes, key))
				}
			}
		}
	}
}

// P11.1 and P11.2: keys that can't wrap

// expectNoKey fails unless each call says that there is no such key.
func expectNoKey(t *testing.T, kek, b []byte) {
	t.Helper()
	got, e := Wrap(kek, b)
	expectError(t, "Wrap", got, e, api.ErrKey)
	got, e = Unwrap(kek, b)
	expectError(t, "Unwrap", got, e, api.ErrKey)
}

// Rule 0.2: the key that wraps is asked first, whatever else is wrong.
func TestKeksOfAnotherLength(t *testing.T) {
	var sizes []int
	for size := range 300 {
		sizes = append(sizes, size)
	}
	for _, size := range append(sizes, 1024, 4096, 1<<16, 1<<16+16, 1<<16+24, 1<<16+32) {
		if slices.Contains(kekSizes, size) {
			continue
		}
		for _, other := range []int{0, 1, 7, 8, 15, 16, 17, 23, 24, 25, 32, 40, 4096, 4097, 4104, 4105, 4112} {
			expectNoKey(t, make([]byte, size), make([]byte, other))
		}
		expectNoKey(t, make([]byte, size), nil)
	}
	expectNoKey(t, nil, nil)
	expectNoKey(t, nil, make([]byte, 24))
}

// P11.1 and P11.2: what has another length

// manySizes is all lengths up to a little more than the longest, and some far above.
func manySizes() []int {
	var sizes []int
	for size := range 4300 {
		sizes = append(sizes, size)
	}
	return append(sizes, 8192, 8200, 1<<16, 1<<16+16, 1<<16+24, 1<<20, 1<<20+8, 1<<24)
}

func TestWrapOfAnotherLength(t *testing.T) {
	for _, size := range manySizes() {
		if size >= 16 && size <= 4096 && size%8 == 0 {
			continue
		}
		for _, kekSize := range kekSizes {
			got, e := Wrap(counted(kekSize), make([]byte, size))
			expectError(t, "Wrap", got, e, api.ErrSize)
		}
	}
	got, e := Wrap(counted(16), nil)
	expectError(t, "Wrap of nil", got, e, api.ErrSize)
}

func TestUnwrapOfAnotherLength(t *testing.T) {
	for _, size := range manySizes() {
		if size >= 24 && size <= 4104 && size%8 == 0 {
			continue
		}
		for _, kekSize := range kekSizes {
			got, e := Unwrap(counted(kekSize), make([]byte, size))
			expectError(t, "Unwrap", got, e, api.ErrSize)
		}
	}
	got, e := Unwrap(counted(16), nil)
	expectError(t, "Unwrap of nil", got, e, api.ErrSize)
}

// That A is right makes what has too few or too many words no wrapped key.
func TestUnwrapOfWhatIsRightButForItsLength(t *testing.T) {
	for _, kekSize := range kekSizes {
		kek := drawn(1, kekSize)
		for _, size := range []int{0, 8, 4104, 4112, 8192} {
			got, e := Unwrap(kek, ruledWrap(t, kek, sixes, drawn(2, size)))
			expectError(t, "Unwrap", got, e, api.ErrSize)
		}
	}
}

// Each length that may be is read: what is no wrapped key there is none by its A, not by its length.
func TestUnwrapOfEachLength(t *testing.T) {
	for size := 24; size <= 4104; size += 8 {
		if size > 400 && size < 4000 && size%240 != 0 {
			continue
		}
		got, e := Unwrap(counted(16), make([]byte, size))
		expectError(t, "Unwrap", got, e, api.ErrWrap)
	}
}

// P11.2: what was wrapped otherwise

// A that is other in any bit is another one, though all words are right.
func TestUnwrapOfAnotherA(t *testing.T) {
	for _, kekSize := range kekSizes {
		for _, size := range []int{16, 24, 40, 344} {
			kek, key := drawn(3, kekSize), drawn(4, size)
			for i := range 64 {
				begin := slices.Clone(sixes)
				begin[i/8] ^= 0x80 >> (i % 8)
				wrapped := ruledWrap(t, kek, begin, key)
				if a, same := ruledUnwrap(t, kek, wrapped); !bytes.Equal(a, begin) || !bytes.Equal(same, key) {
					t.Fatalf("the rule's way back leads to %x, %x", a, short(same))
				}
				got, e := Unwrap(kek, wrapped)
				expectError(t, "Unwrap", got, e, api.ErrWrap)
			}
			others := []string{
				"0000000000000000", "ffffffffffffffff", "5959595959595959", "6a6a6a6a6a6a6a6a",
				"a65959a600000010", // a key that is filled up (RFC 5649) is wrapped otherwise
			}
			for _, begin := range others {
				got, e := Unwrap(kek, ruledWrap(t, kek, unhex(t, begin), key))
				expectError(t, "Unwrap", got, e, api.ErrWrap)
			}
		}
	}
}

// Each bit of a wrapped key spoilt, and each bit of the key that wrapped it.
func TestUnwrapOfWhatIsSpoilt(t *testing.T) {
	for _, kekSize := range kekSizes {
		kek := drawn(5, kekSize)
		for _, size := range []int{16, 32} {
			wrapped := ruledWrap(t, kek, sixes, drawn(6, size))
			for i := range 8 * len(wrapped) {
				spoilt := slices.Clone(wrapped)
				spoilt[i/8] ^= 0x80 >> (i % 8)
				got, e := Unwrap(kek, spoilt)
				expectError(t, "Unwrap of what is spoilt", got, e, api.ErrWrap)
			}
			for i := range 8 * len(kek) {
				other := slices.Clone(kek)
				other[i/8] ^= 0x80 >> (i % 8)
				got, e := Unwrap(other, wrapped)
				expectError(t, "Unwrap by another key", got, e, api.ErrWrap)
			}
		}
	}
}

// A key that wraps is another one where it goes on, though it begins the same.
func TestUnwrapByAKeyThatGoesOn(t *testing.T) {
	for _, x := range [][2]int{{16, 24}, {16, 32}, {24, 32}, {24, 16}, {32, 16}, {32, 24}} {
		wrapped := ruledWrap(t, counted(x[0]), sixes, counted(32))
		got, e := Unwrap(counted(x[1]), wrapped)
		expectError(t, "Unwrap", got, e, api.ErrWrap)
	}
}

// Words that are missing, doubled, put behind or in another order.
func TestUnwrapOfMovedWords(t *testing.T) {
	kek, key := drawn(7, 16), drawn(8, 40)
	wrapped := ruledWrap(t, kek, sixes, key)
	l := slices.Collect(slices.Chunk(wrapped, 8))
	var moved [][]byte
	for i := range l {
		moved = append(moved, slices.Concat(slices.Concat(l[:i]...), slices.Concat(l[i+1:]...)))
		moved = append(moved, slices.Concat(slices.Concat(l[:i+1]...), slices.Concat(l[i:]...)))
		for j := range i {
			other := slices.Clone(l)
			other[i], other[j] = l[j], l[i]
			moved = append(moved, slices.Concat(other...))
		}
	}
	moved = append(moved, slices.Concat(wrapped, make([]byte, 8)), slices.Concat(make([]byte, 8), wrapped), slices.Concat(sixes, key))
	for _, b := range moved {
		got, e := Unwrap(kek, b)
		expectError(t, "Unwrap of moved words", got, e, api.ErrWrap)
	}
}
