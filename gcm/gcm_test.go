package gcm

import (
	"bytes"
	"crypto/sha256"
	"encoding/hex"
	"math/rand"
	"slices"
	"strings"
	"testing"

	"apostille/api"
)

const longest = 1 << 20

// expect fails unless a call told so.
func expect(t *testing.T, what string, got []byte, e api.Errno, want []byte) {
	t.Helper()
	if e != api.OK || !bytes.Equal(got, want) {
		t.Errorf("%s: %x, %v; want %x", what, short(got), e, short(want))
	}
}

// expectError fails unless a call told so, and nothing beside (P12.5).
func expectError(t *testing.T, what string, got []byte, e, want api.Errno) {
	t.Helper()
	if e != want || got != nil {
		t.Errorf("%s: %d bytes, %v; want %v", what, len(got), e, want)
	}
}

// expectBlock fails unless a product or a sum is so.
func expectBlock(t *testing.T, what string, got, want []byte) {
	t.Helper()
	if !bytes.Equal(got, want) {
		t.Errorf("%s: %x; want %x", what, short(got), want)
	}
}

// expectBoth fails unless Seal tells so, and Open tells the way back.
func expectBoth(t *testing.T, key, nonce, beside, plain, want []byte) {
	t.Helper()
	got, e := Seal(key, nonce, beside, plain)
	expect(t, "Seal", got, e, want)
	got, e = Open(key, nonce, beside, want)
	expect(t, "Open", got, e, plain)
}

// short is the first bytes of a text, as many as are worth a line.
func short(b []byte) []byte {
	return b[:min(len(b), 64)]
}

// unhex is bytes out of their digits, which may stand apart.
func unhex(t *testing.T, s string) []byte {
	t.Helper()
	b, err := hex.DecodeString(strings.ReplaceAll(s, " ", ""))
	if err != nil {
		t.Fatal(err)
	}
	return b
}

// counted is bytes from 0 on.
func counted(size int) []byte {
	b := make([]byte, size)
	for i := range b {
		b[i] = byte(i)
	}
	return b
}

// power is the block of x^i.
func power(i int) []byte {
	b := make([]byte, 16)
	b[i/8] = 0x80 >> (i % 8)
	return b
}

// flipped is a text with one bit the other way.
func flipped(b []byte, bit int) []byte {
	out := slices.Clone(b)
	out[bit/8] ^= 0x80 >> (bit % 8)
	return out
}

func TestTheChaptersExamples(t *testing.T) {
	got, e := Seal(make([]byte, 16), make([]byte, 12), nil, nil)
	if e != api.OK || len(got) != 16 || !bytes.Equal(got[:4], []byte{88, 226, 252, 206}) {
		t.Errorf("Seal of nothing: %x, %v", got, e)
	}
	got, e = Open(make([]byte, 16), make([]byte, 12), nil, make([]byte, 16))
	expectError(t, "Open of 16 bytes 0", got, e, api.ErrMac)
}

// P12.1: products

func TestMulOfTheStandard(t *testing.T) {
	for _, x := range [][3]string{
		{"66e94bd4ef8a2c3b884cfa59ca342b2e", "0388dace60b6a392f328c2b971b2fe78", "5e2ec746917062882c85b0685353deb7"},
		{"00000000000000000000000000000001", "40000000000000000000000000000000", "e1000000000000000000000000000000"},
		{"00000000000000000000000000000001", "80000000000000000000000000000000", "00000000000000000000000000000001"},
	} {
		a, b, want := unhex(t, x[0]), unhex(t, x[1]), unhex(t, x[2])
		expectBlock(t, "Mul", Mul(a, b), want)
		expectBlock(t, "Mul, the other way round", Mul(b, a), want)
	}
}

// Powers of x: x^i times x^j is x^(i+j), which is a power alone up to x^127.
func TestMulOfEachPower(t *testing.T) {
	for i := range 128 {
		for j := range 128 {
			got := Mul(power(i), power(j))
			if i+j < 128 {
				expectBlock(t, "Mul", got, power(i+j))
			}
			expectBlock(t, "Mul", got, ruledMul(power(i), power(j)))
		}
	}
}

func TestMulGoesByTheRule(t *testing.T) {
	r := rand.New(rand.NewSource(121))
	for range 300 {
		a, b := drawn(r.Int63(), 16), drawn(r.Int63(), 16)
		expectBlock(t, "Mul", Mul(a, b), ruledMul(a, b))
	}
	for x := range 256 {
		a, b := bytes.Repeat([]byte{byte(x)}, 16), bytes.Repeat([]byte{0xff}, 16)
		expectBlock(t, "Mul", Mul(a, b), ruledMul(a, b))
		expectBlock(t, "Mul", Mul(a, counted(16)), ruledMul(a, counted(16)))
	}
}

func TestMulByNothingAndByOne(t *testing.T) {
	zero := make([]byte, 16)
	for seed := range int64(50) {
		b := drawn(seed, 16)
		expectBlock(t, "Mul by 0", Mul(b, zero), zero)
		expectBlock(t, "Mul of 0", Mul(zero, b), zero)
		expectBlock(t, "Mul by 1", Mul(b, power(0)), b)
		expectBlock(t, "Mul of 1", Mul(power(0), b), b)
	}
	expectBlock(t, "Mul of 0 by 0", Mul(zero, zero), zero)
}

func TestMulOfAnotherLength(t *testing.T) {
	var sizes []int
	for size := range 70 {
		sizes = append(sizes, size)
	}
	sizes = append(sizes, 256, 1<<16, 1<<16+16)
	for _, a := range sizes {
		for _, b := range sizes {
			if got := Mul(make([]byte, a), make([]byte, b)); (got == nil) != (a != 16 || b != 16) {
				t.Errorf("Mul of %d bytes and %d bytes: %x", a, b, got)
			}
		}
	}
	if Mul(nil, counted(16)) != nil || Mul(counted(16), nil) != nil || Mul(nil, nil) != nil {
		t.Error("Mul of nil is something")
	}
}

// P12.1: sums

// What the standard sums up for its examples.
func TestGhashOfTheStandard(t *testing.T) {
	const (
		beside = "feedfacedeadbeeffeedfacedeadbeef abaddad2000000000000000000000000"
		text   = "42831ec2217774244b7221b784d0d49c e3aa212f2c02a4e035c17e2329aca12e 21d514b25466931c7d8f6a5aac84aa05 1ba30b396a0aac973d58e091"
	)
	for _, x := range [][3]string{
		{"66e94bd4ef8a2c3b884cfa59ca342b2e", strings.Repeat("0", 32), strings.Repeat("0", 32)},
		{"66e94bd4ef8a2c3b884cfa59ca342b2e", "0388dace60b6a392f328c2b971b2fe78", "5e2ec746917062882c85b0685353deb7"},
		{"66e94bd4ef8a2c3b884cfa59ca342b2e", "0388dace60b6a392f328c2b971b2fe78 00000000000000000000000000000080", "f38cbb1ad69223dcc3457ae5b6b0f885"},
		{"b83b533708bf535d0aa6e52980d53b78", text + "473f5985 00000000000000000000000000000200", "7f1b32b81b820d02614f8895ac1d4eac"},
		{"b83b533708bf535d0aa6e52980d53b78", beside + text + "00000000 00000000000000a000000000000001e0", "698e57f70e6ecc7fd9463b7260a9ae5f"},
	} {
		expectBlock(t, "Ghash", Ghash(unhex(t, x[0]), unhex(t, x[1])), unhex(t, x[2]))
	}
}

func TestGhashOfEachCount(t *testing.T) {
	r := rand.New(rand.NewSource(122))
	for count := range 40 {
		h, b := drawn(r.Int63(), 16), drawn(r.Int63(), 16*count)
		expectBlock(t, "Ghash", Ghash(h, b), ruledSum(h, b))
	}
	// More than may be sealed: the sum asks no limit.
	h, b := drawn(1, 16), drawn(2, longest+16)
	got := Ghash(h, b)
	expectBlock(t, "Ghash", Mul(xored(Ghash(h, b[:longest]), b[longest:]), h), got)
}

// No block at all is whole blocks, too: nothing is added to 0.
func TestGhashOfNothing(t *testing.T) {
	for _, h := range [][]byte{make([]byte, 16), counted(16), drawn(3, 16)} {
		expectBlock(t, "Ghash of nil", Ghash(h, nil), make([]byte, 16))
		expectBlock(t, "Ghash of no byte", Ghash(h, []byte{}), make([]byte, 16))
	}
}

func TestGhashOfAnotherLength(t *testing.T) {
	for size := range 300 {
		if got := Ghash(counted(16), make([]byte, size)); (got == nil) != (size%16 != 0) {
			t.Errorf("Ghash of %d bytes: %x", size, got)
		}
		if size == 16 {
			continue
		}
		for _, other := range []int{0, 1, 15, 16, 17, 32} {
			if got := Ghash(make([]byte, size), make([]byte, other)); got != nil {
				t.Errorf("Ghash of %d bytes by %d bytes: %x", other, size, got)
			}
		}
	}
	if Ghash(nil, nil) != nil || Ghash(nil, counted(16)) != nil {
		t.Error("Ghash by nil is something")
	}
	for _, size := range []int{1<<16 - 1, 1<<16 + 1, longest - 8, longest + 15} {
		if got := Ghash(counted(16), make([]byte, size)); got != nil {
			t.Errorf("Ghash of %d bytes: %x", size, got)
		}
	}
}

// P12.2 and P12.3: texts that are sealed, and the way back

// The examples of those who proposed it, as far as their nonces have 12 bytes.
func TestTextsOfTheStandard(t *testing.T) {
	zero, nonce := make([]byte, 12), unhex(t, "cafebabefacedbaddecaf888")
	key := unhex(t, "feffe9928665731c6d6a8f9467308308 feffe9928665731c6d6a8f9467308308")
	plain := unhex(t, "d9313225f88406e5a55909c5aff5269a 86a7a9531534f7da2e4c303d8a318a72 1c3c0c95956809532fcf0e2449a6b525 b16aedf5aa0de657ba637b391aafd255")
	beside := unhex(t, "feedfacedeadbeeffeedfacedeadbeef abaddad2")
	for _, x := range []struct {
		size                                      int
		nothing, zeros, text, last, alone, within string
	}{
		{
			16, "58e2fccefa7e3061367f1d57a4e7455a",
			"0388dace60b6a392f328c2b971b2fe78 ab6e47d42cec13bdf53a67b21257bddf",
			"42831ec2217774244b7221b784d0d49c e3aa212f2c02a4e035c17e2329aca12e 21d514b25466931c7d8f6a5aac84aa05 1ba30b396a0aac973d58e091", "473f5985",
			"4d5c2af327cd64a62cf35abd2ba6fab4", "5bc94fbc3221a5db94fae95ae7121a47",
		},
		{
			24, "cd33b28ac773f74ba00ed1f312572435",
			"98e7247c07f0fe411c267e4384b0f600 2ff58d80033927ab8ef4d4587514f0fb",
			"3980ca0b3c00e841eb06fac4872a2757 859e1ceaa6efd984628593b40ca1e19c 7d773d00c144c525ac619d18c84a3f47 18e2448b2fe324d9ccda2710", "acade256",
			"9924a7c8587336bfb118024db8674a14", "2519498e80f1478f37ba55bd6d27618c",
		},
		{
			32, "530f8afbc74536b9a963b4f1c4cb738b",
			"cea7403d4d606b6e074ec5d3baf39d18 d0d1c8a799996bf0265b98b5d48ab919",
			"522dc1f099567d07f47f37a32a84427d 643a8cdcbfe5c0c97598a2bd2555d1aa 8cb08e48590dbb3da7b08b1056828838 c5f61e6393ba7a0abcc9f662", "898015ad",
			"b094dac5d93471bdec1a502270e3cc6c", "76fc6ece0f4e1768cddf8853bb2d551b",
		},
	} {
		expectBoth(t, make([]byte, x.size), zero, nil, nil, unhex(t, x.nothing))
		expectBoth(t, make([]byte, x.size), zero, nil, make([]byte, 16), unhex(t, x.zeros))
		expectBoth(t, key[:x.size], nonce, nil, plain, unhex(t, x.text+x.last+x.alone))
		expectBoth(t, key[:x.size], nonce, beside, plain[:60], unhex(t, x.text+x.within))
	}
}

func TestTextsOfEachLength(t *testing.T) {
	r := rand.New(rand.NewSource(123))
	for _, keySize := range keySizes {
		for size := range 70 {
			for _, besideSize := range []int{0, 1, 15, 16, 17, 31, 32, 33, 48, size} {
				key, nonce := drawn(r.Int63(), keySize), drawn(r.Int63(), 12)
				beside, plain := drawn(r.Int63(), besideSize), drawn(r.Int63(), size)
				want := librarySeal(t, key, nonce, beside, plain)
				if len(want) != size+16 {
					t.Fatalf("%d bytes by the library, of %d", len(want), size)
				}
				expectBoth(t, key, nonce, beside, plain, want)
				expectBoth(t, key, nonce, plain, beside, librarySeal(t, key, nonce, plain, beside))
			}
		}
	}
}

func TestTextsGoByTheRule(t *testing.T) {
	r := rand.New(rand.NewSource(124))
	for _, keySize := range keySizes {
		for range 20 {
			key, nonce := drawn(r.Int63(), keySize), drawn(r.Int63(), 12)
			beside, plain := drawn(r.Int63(), r.Intn(100)), drawn(r.Int63(), r.Intn(100))
			want := ruledSeal(t, key, nonce, beside, plain)
			if !bytes.Equal(want, librarySeal(t, key, nonce, beside, plain)) {
				t.Fatal("the rule and the library tell two things")
			}
			expectBoth(t, key, nonce, beside, plain, want)
		}
	}
}

// Texts of one byte all over, by such keys and nonces: nothing carries over into the nonce from the number.
func TestTextsOfOneByteAllOver(t *testing.T) {
	for _, keySize := range keySizes {
		for _, x := range []byte{0, 1, 0x80, 0xff} {
			for _, y := range []byte{0, 1, 0x80, 0xff} {
				key, nonce := bytes.Repeat([]byte{x}, keySize), bytes.Repeat([]byte{y}, 12)
				for _, size := range []int{16, 20, 16 * 260} {
					beside, plain := bytes.Repeat([]byte{y}, size), bytes.Repeat([]byte{x}, size)
					expectBoth(t, key, nonce, beside, plain, librarySeal(t, key, nonce, beside, plain))
				}
			}
		}
	}
}

// Around the lengths where the number takes another byte, and where the count of bits does.
func TestLongTexts(t *testing.T) {
	for _, size := range []int{16 * 253, 16 * 254, 16 * 255, 16*256 + 1, 8191, 8192, 8193, 16 * 65533, 16 * 65534, longest - 1, longest} {
		key, nonce := drawn(int64(size), 16), drawn(4, 12)
		plain := drawn(5, size)
		expectBoth(t, key, nonce, plain[:size%700], plain, librarySeal(t, key, nonce, plain[:size%700], plain))
		expectBoth(t, key, nonce, plain, plain[:size%700], librarySeal(t, key, nonce, plain, plain[:size%700]))
	}
}

// Texts as long as they may be, sealed by another program: the sums of what it told.
func TestTheLongestTextsElsewhere(t *testing.T) {
	for _, x := range []struct {
		keySize, beside, plain int
		want                   string
	}{
		{16, 0, longest, "f0c76bbfeccf2c0852b157598a63c5a52dda22a460b8e1a426095707cc2d023b"},
		{16, longest, 0, "3eee1427521d75f22f7b7767d44c6f5bcd12bdc454b9f95a32cf2e78ab8c887f"},
		{16, longest - 1, longest - 1, "2b5d7954c3de7040c40d8e143874e046093e526817748cf7f8b9dee5915a5f66"},
		{16, longest, longest, "e1550ca55c9e8e0533c8417f715e8951b70581dbad25520107da74d6045d49a8"},
		{16, 3, longest - 15, "49272e0a31f5bbdbec10e428b232854f5d0ea472852d634794f4ca5e70107813"},
		{24, longest, longest, "94224c8c621601e878a02ec9d36a8143b70910f63745e7c785edbe34e75d1a1d"},
		{32, longest, longest, "982a784fe84b00ed2c57dd09cd852dd13f70a59ac66c4fb63bad9a55acd6ccf6"},
	} {
		key, nonce, beside, plain := counted(x.keySize), counted(12), counted(x.beside), counted(x.plain)
		sealed, e := Seal(key, nonce, beside, plain)
		sum := sha256.Sum256(sealed)
		expect(t, "sum of Seal", sum[:], e, unhex(t, x.want))
		got, e := Open(key, nonce, beside, sealed)
		expect(t, "Open", got, e, plain)
	}
}

// Rule 0.7: an empty text is none.
func TestOpenOfNothing(t *testing.T) {
	for _, keySize := range keySizes {
		key, nonce := counted(keySize), counted(12)
		for _, beside := range [][]byte{nil, {}, counted(5), counted(16)} {
			got, e := Open(key, nonce, beside, librarySeal(t, key, nonce, beside, nil))
			if e != api.OK || got != nil {
				t.Errorf("Open: %v, %v", got, e)
			}
			expectBoth(t, key, nonce, beside, []byte{}, librarySeal(t, key, nonce, beside, nil))
		}
	}
}

// P12.2 and P12.3: what can't be a key

// expectErrors fails unless both calls tell so.
func expectErrors(t *testing.T, key, nonce, beside, b []byte, want api.Errno) {
	t.Helper()
	got, e := Seal(key, nonce, beside, b)
	expectError(t, "Seal", got, e, want)
	got, e = Open(key, nonce, beside, b)
	expectError(t, "Open", got, e, want)
}

// Rule 0.2: the key is asked first, whatever else is wrong.
func TestKeysOfAnotherLength(t *testing.T) {
	tooLong := make([]byte, longest+17)
	for size := range 300 {
		if slices.Contains(keySizes, size) {
			continue
		}
		for _, nonceSize := range []int{0, 11, 12, 13, 16} {
			for _, b := range [][]byte{nil, tooLong[:15], tooLong[:16], tooLong[:40], tooLong} {
				expectErrors(t, make([]byte, size), make([]byte, nonceSize), nil, b, api.ErrKey)
				expectErrors(t, make([]byte, size), make([]byte, nonceSize), b, b, api.ErrKey)
			}
		}
	}
	for _, size := range []int{1024, 1<<16 + 16, 1<<16 + 24, 1<<16 + 32} {
		expectErrors(t, make([]byte, size), counted(12), nil, counted(40), api.ErrKey)
	}
	expectErrors(t, nil, nil, nil, nil, api.ErrKey)
	expectErrors(t, nil, counted(12), nil, counted(16), api.ErrKey)
}

// P12.2 and P12.3: what has another length

// Rule 0.2: the nonce is asked ahead of what is too long.
func TestNoncesOfAnotherLength(t *testing.T) {
	tooLong := make([]byte, longest+17)
	for _, keySize := range keySizes {
		for size := range 300 {
			if size == 12 {
				continue
			}
			for _, b := range [][]byte{nil, tooLong[:15], tooLong[:16], tooLong[:40], tooLong} {
				expectErrors(t, counted(keySize), make([]byte, size), nil, b, api.ErrSize)
				expectErrors(t, counted(keySize), make([]byte, size), tooLong, b, api.ErrSize)
			}
		}
		for _, size := range []int{1<<8 + 12, 1<<16 + 12} {
			expectErrors(t, counted(keySize), make([]byte, size), nil, counted(40), api.ErrSize)
		}
		expectErrors(t, counted(keySize), nil, nil, nil, api.ErrSize)
	}
}

// What has no room for a tag is told ahead of what is too long.
func TestOpenOfTooShortAText(t *testing.T) {
	for _, keySize := range keySizes {
		for size := range 16 {
			for _, beside := range [][]byte{nil, counted(20), make([]byte, longest), make([]byte, longest+1)} {
				got, e := Open(counted(keySize), counted(12), beside, make([]byte, size))
				expectError(t, "Open", got, e, api.ErrSize)
			}
		}
		got, e := Open(counted(keySize), counted(12), nil, nil)
		expectError(t, "Open of nil", got, e, api.ErrSize)
		got, e = Open(counted(keySize), counted(12), nil, make([]byte, 16))
		expectError(t, "Open of 16 bytes", got, e, api.ErrMac)
	}
}

// A tag that is cut short is none, though what is left of it is right.
func TestOpenOfATagThatIsCutShort(t *testing.T) {
	key, nonce, beside := drawn(6, 16), drawn(7, 12), drawn(8, 20)
	for _, size := range []int{0, 1, 16, 20} {
		sealed := librarySeal(t, key, nonce, beside, drawn(9, size))
		for cut := 1; cut <= len(sealed); cut++ {
			want := api.ErrMac
			if len(sealed)-cut < 16 {
				want = api.ErrSize
			}
			got, e := Open(key, nonce, beside, sealed[:len(sealed)-cut])
			expectError(t, "Open of what ends early", got, e, want)
			got, e = Open(key, nonce, beside, sealed[cut:])
			expectError(t, "Open of what begins late", got, e, want)
		}
	}
}

// P12.2 and P12.3: what is too long

func TestTextsThatAreTooLong(t *testing.T) {
	tooLong := drawn(10, longest+100)
	for _, keySize := range keySizes {
		key, nonce := counted(keySize), counted(12)
		for _, more := range []int{1, 15, 16, 17, 100} {
			got, e := Seal(key, nonce, nil, tooLong[:longest+more])
			expectError(t, "Seal of too long a text", got, e, api.ErrLong)
			expectErrors(t, key, nonce, tooLong[:longest+more], tooLong[:40], api.ErrLong)
			expectErrors(t, key, nonce, tooLong[:longest+more], tooLong, api.ErrLong)
			got, e = Open(key, nonce, tooLong[:longest+more], tooLong[:16])
			expectError(t, "Open beside too long a text", got, e, api.ErrLong)
			want := api.ErrLong
			if more <= 16 {
				want = api.ErrMac
			}
			got, e = Open(key, nonce, nil, tooLong[:longest+more])
			expectError(t, "Open of a long text", got, e, want)
		}
		got, e := Seal(key, nonce, tooLong[:longest+1], nil)
		expectError(t, "Seal beside too long a text", got, e, api.ErrLong)
	}
}

// What is too long is none, though its tag is right.
func TestOpenOfWhatIsRightButTooLong(t *testing.T) {
	key, nonce, b := counted(16), counted(12), drawn(11, longest+1)
	got, e := Open(key, nonce, nil, librarySeal(t, key, nonce, nil, b))
	expectError(t, "Open of too long a text", got, e, api.ErrLong)
	got, e = Open(key, nonce, b, librarySeal(t, key, nonce, b, nil))
	expectError(t, "Open beside too long a text", got, e, api.ErrLong)
}

// P12.3: another tag

// Each bit of everything spoilt: of the text, of all 16 bytes of the tag, of the key, the nonce and what stands beside.
func TestOpenOfWhatIsSpoilt(t *testing.T) {
	for _, keySize := range keySizes {
		for _, size := range []int{0, 5, 16, 37} {
			key, nonce, beside := drawn(12, keySize), drawn(13, 12), drawn(14, 21)
			sealed := librarySeal(t, key, nonce, beside, drawn(15, size))
			given := [][]byte{key, nonce, beside, sealed}
			for which := range given {
				for bit := range 8 * len(given[which]) {
					l := slices.Clone(given)
					l[which] = flipped(l[which], bit)
					got, e := Open(l[0], l[1], l[2], l[3])
					expectError(t, "Open of what is spoilt", got, e, api.ErrMac)
				}
			}
		}
	}
}

// The last byte of the longest text, and of what stands beside it, counts like any other.
func TestOpenOfALongTextThatIsSpoilt(t *testing.T) {
	key, nonce, text := drawn(16, 32), drawn(17, 12), drawn(18, longest)
	sealed := librarySeal(t, key, nonce, text, text)
	for _, bit := range []int{0, 8*longest - 1, 8 * longest, 8*longest + 127} {
		got, e := Open(key, nonce, text, flipped(sealed, bit))
		expectError(t, "Open of a long text that is spoilt", got, e, api.ErrMac)
	}
	got, e := Open(key, nonce, flipped(text, 8*longest-1), sealed)
	expectError(t, "Open beside a long text that is spoilt", got, e, api.ErrMac)
}

// Zeros behind what stands beside, or behind the text, change the sum by the lengths alone; so does a piece that goes from one to the other.
func TestOpenOfOtherLengths(t *testing.T) {
	key, nonce := drawn(19, 16), drawn(20, 12)
	row := make([]byte, 64)
	for size := range 32 {
		sealed := librarySeal(t, key, nonce, row[:size], nil)
		for other := range 32 {
			if other == size {
				continue
			}
			got, e := Open(key, nonce, row[:other], sealed)
			expectError(t, "Open beside more or less", got, e, api.ErrMac)
		}
	}
	beside := drawn(21, 32)
	sealed := librarySeal(t, key, nonce, beside, drawn(22, 32))
	for at := range 33 {
		if at == 0 {
			continue
		}
		got, e := Open(key, nonce, slices.Concat(beside, sealed[:at]), sealed[at:])
		expectError(t, "Open of what begins beside", got, e, api.ErrMac)
		got, e = Open(key, nonce, beside[:32-at], slices.Concat(beside[32-at:], sealed))
		expectError(t, "Open of what stands beside", got, e, api.ErrMac)
	}
}

// Blocks in another order, doubled or left out, and the tag ahead.
func TestOpenOfMovedBlocks(t *testing.T) {
	key, nonce, beside := drawn(23, 24), drawn(24, 12), drawn(25, 48)
	sealed := librarySeal(t, key, nonce, beside, drawn(26, 64))
	l := slices.Collect(slices.Chunk(sealed, 16))
	for i := range l {
		left := slices.Concat(slices.Concat(l[:i]...), slices.Concat(l[i+1:]...))
		got, e := Open(key, nonce, beside, left)
		expectError(t, "Open without a block", got, e, api.ErrMac)
		doubled := slices.Concat(slices.Concat(l[:i+1]...), slices.Concat(l[i:]...))
		got, e = Open(key, nonce, beside, doubled)
		expectError(t, "Open of a block twice", got, e, api.ErrMac)
		for j := range i {
			other := slices.Clone(l)
			other[i], other[j] = l[j], l[i]
			got, e = Open(key, nonce, beside, slices.Concat(other...))
			expectError(t, "Open of moved blocks", got, e, api.ErrMac)
		}
	}
	got, e := Open(key, nonce, slices.Concat(beside[16:32], beside[:16], beside[32:]), sealed)
	expectError(t, "Open beside moved blocks", got, e, api.ErrMac)
	got, e = Open(key, nonce, nil, sealed)
	expectError(t, "Open beside nothing", got, e, api.ErrMac)
}
