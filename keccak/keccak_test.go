package keccak

import (
	"bytes"
	"crypto/sha3"
	"encoding/hex"
	"math"
	"math/rand"
	"strings"
	"testing"

	"apostille/api"
)

// otherKinds is what there are no sums of, those of other layers among them.
var otherKinds = []int{math.MinInt, -4, -1, 0, 1, 2, 3, 8, 9, 33, 256 + 4, 1<<32 + 4, 1<<32 + 7, math.MaxInt}

// librarySum is the library's word on the sum of a text, of whole length where it has one.
func librarySum(kind int, b []byte, n int) []byte {
	switch kind {
	case api.HaSha3256:
		s := sha3.Sum256(b)
		return s[:]
	case api.HaSha3512:
		s := sha3.Sum512(b)
		return s[:]
	case api.HaShake128:
		return sha3.SumSHAKE128(b, n)
	}
	return sha3.SumSHAKE256(b, n)
}

// wholeSize is a length at which the library tells sums of a kind.
func wholeSize(kind int) int {
	switch kind {
	case api.HaSha3256:
		return 32
	case api.HaSha3512:
		return 64
	}
	return 300
}

// expectSum fails unless Sum tells so.
func expectSum(t *testing.T, kind int, b, want []byte) {
	t.Helper()
	got, e := Sum(kind, b, len(want))
	if e != api.OK || !bytes.Equal(got, want) {
		t.Fatalf("Sum(%d) of %d bytes, %d of it: %x, %v; want %x", kind, len(b), len(want), got, e, want)
	}
}

func TestTheChaptersExamples(t *testing.T) {
	expectSum(t, api.HaSha3256, nil, []byte{167, 255, 198, 248})
	expectSum(t, api.HaShake128, nil, []byte{127, 156, 43, 164})
}

// The examples of FIPS 202, so that not all hangs on the library.
func TestTheStandardsExamples(t *testing.T) {
	long := "abcdefghbcdefghicdefghijdefghijkefghijklfghijklmghijklmnhijklmnoijklmnopjklmnopqklmnopqrlmnopqrsmnopqrstnopqrstu"
	threes := strings.Repeat("\xa3", 200)
	for _, x := range []struct {
		kind       int
		text, want string
	}{
		{api.HaSha3256, "", "a7ffc6f8bf1ed76651c14756a061d662f580ff4de43b49fa82d80a4b80f8434a"},
		{api.HaSha3256, "abc", "3a985da74fe225b2045c172d6bd390bd855f086e3e9d525b46bfe24511431532"},
		{api.HaSha3256, long, "916f6061fe879741ca6469b43971dfdb28b1a32dc36cb3254e812be27aad1d18"},
		{api.HaSha3256, threes, "79f38adec5c20307a98ef76e8324afbfd46cfd81b22e3973c65fa1bd9de31787"},
		{api.HaSha3256, strings.Repeat("a", 1000000), "5c8875ae474a3634ba4fd55ec85bffd661f32aca75c6d699d0cdcb6c115891c1"},
		{api.HaSha3512, "", "a69f73cca23a9ac5c8b567dc185a756e97c982164fe25859e0d1dcc1475c80a615b2123af1f5f94c11e3e9402c3ac558f500199d95b6d3e301758586281dcd26"},
		{api.HaSha3512, "abc", "b751850b1a57168a5693cd924b6b096e08f621827444f70d884f5d0240d2712e10e116e9192af3c91a7ec57647e3934057340b4cf408d5a56592f8274eec53f0"},
		{api.HaSha3512, threes, "e76dfad22084a8b1467fcf2ffa58361bec7628edf5f3fdc0e4805dc48caeeca81b7c13c30adf52a3659584739a2df46be589c51ca1a4a8416df6545a1ce8ba00"},
		{api.HaShake128, "", "7f9c2ba4e88f827d616045507605853ed73b8093f6efbc88eb1a6eacfa66ef26"},
		{api.HaShake128, threes, "131ab8d2b594946b9c81333f9bb6e0ce75c3b93104fa3469d3917457385da037"},
		{api.HaShake256, "", "46b9dd2b0ba88d13233b3feb743eeb243fcd52ea62b81b82b50c27646ed5762fd75dc4ddd8c0f200cb05019d67b592f6fc821c49479ab48640292eacb3b7c4be"},
		{api.HaShake256, threes, "cd8a920ed141aa0407a22d59288652e9d9f1a7ee0c1e7c1ca699424da84a904d"},
	} {
		want, err := hex.DecodeString(x.want)
		if err != nil {
			t.Fatal(err)
		}
		expectSum(t, x.kind, []byte(x.text), want)
	}
}

// P8.1

func TestTheConstants(t *testing.T) {
	for i, want := range ruledConstants() {
		if constants[i] != want {
			t.Errorf("the constant of round %d: %x, want %x", i, constants[i], want)
		}
	}
}

// The words behind one and two rows of rounds from 0 on, as the makers of Keccak tell them.
func TestPermuteOfZeros(t *testing.T) {
	once := Permute([25]uint64{})
	if once[0] != 0xf1258f7940e1dde7 || once[1] != 0x84d5ccf933c0478a || once[24] != 0xeaf1ff7b5ceca249 {
		t.Errorf("Permute of 0: %x", once)
	}
	twice := Permute(once)
	if twice[0] != 0x2d5c954df96ecb3c || twice[1] != 0x6a332cd07057b56d || twice[24] != 0x20d06cd26a8fbf5c {
		t.Errorf("Permute of that: %x", twice)
	}
}

func TestPermuteOfEachBit(t *testing.T) {
	for i := range 25 {
		for bit := range 64 {
			var a [25]uint64
			a[i] = 1 << bit
			if got, want := Permute(a), ruledPermute(a); got != want {
				t.Fatalf("bit %d of word %d: %x, want %x", bit, i, got, want)
			}
		}
	}
}

func TestPermuteOfAnyWords(t *testing.T) {
	r := rand.New(rand.NewSource(81))
	for range 2000 {
		a := drawnWords(r)
		for i := range a {
			if r.Intn(4) == 0 {
				a[i] = math.MaxUint64 * uint64(r.Intn(2))
			}
		}
		was := a
		if got, want := Permute(a), ruledPermute(a); got != want || a != was {
			t.Fatalf("Permute of %x: %x, want %x", was, got, want)
		}
	}
}

// No two words lead to the same: what was told differs for all that was given.
func TestPermuteTellsApart(t *testing.T) {
	seen := map[[25]uint64]int{}
	r := rand.New(rand.NewSource(82))
	for i := range 5000 {
		seen[Permute(drawnWords(r))] = i
	}
	if len(seen) != 5000 {
		t.Errorf("%d answers to 5000", len(seen))
	}
}

func TestNew(t *testing.T) {
	for _, kind := range kinds {
		if s, e := New(kind); e != api.OK || s != (api.Sponge{Kind: kind}) {
			t.Errorf("New(%d): %+v, %v", kind, s, e)
		}
	}
}

func TestNoSuchKind(t *testing.T) {
	for _, kind := range otherKinds {
		if s, e := New(kind); e != api.ErrAlg || s != (api.Sponge{}) {
			t.Errorf("New(%d): %+v, %v", kind, s, e)
		}
		for _, n := range []int{math.MinInt, -1, 0, 1, 32, 1 << 24, 1<<24 + 1, math.MaxInt} { // the kind is asked ahead of how many
			for _, b := range [][]byte{nil, {}, {1}, drawn(1, 400)} {
				if got, e := Sum(kind, b, n); e != api.ErrAlg || got != nil {
					t.Errorf("Sum(%d) of %d bytes, %d: %x, %v", kind, len(b), n, got, e)
				}
			}
		}
	}
}

func TestFit(t *testing.T) {
	r := rand.New(rand.NewSource(83))
	far := []int{math.MinInt, math.MinInt32, -1 << 20, -256, 1 << 16, 1 << 31, 1 << 32, 1<<32 + 1, 1 << 62, math.MaxInt}
	for _, kind := range kinds {
		block := ruledBlock[kind]
		for at := -300; at < 600; at++ {
			words := drawnWords(r)
			for _, a := range [][25]uint64{{}, words} {
				if s := (api.Sponge{Kind: kind, Words: a, At: at}); Fit(s) != (0 <= at && at < block) {
					t.Errorf("kind %d at %d: %v", kind, at, Fit(s))
				}
				if s := (api.Sponge{Kind: kind, Words: a, At: at, Out: true}); Fit(s) != (0 <= at && at <= block) {
					t.Errorf("kind %d at %d, squeezed: %v", kind, at, Fit(s))
				}
			}
		}
		for _, at := range far {
			if Fit(api.Sponge{Kind: kind, At: at}) || Fit(api.Sponge{Kind: kind, At: at, Out: true}) {
				t.Errorf("kind %d at %d is fit", kind, at)
			}
		}
	}
	for _, kind := range otherKinds {
		for _, at := range append(far, -1, 0, 1, 71, 72, 135, 136, 167, 168) {
			if Fit(api.Sponge{Kind: kind, At: at}) || Fit(api.Sponge{Kind: kind, At: at, Out: true}) {
				t.Errorf("kind %d at %d is fit", kind, at)
			}
		}
	}
}

// P8.3

func TestSumOfEachLength(t *testing.T) {
	b := drawn(84, 700)
	for _, kind := range kinds {
		n := wholeSize(kind)
		expectSum(t, kind, nil, librarySum(kind, nil, n))
		for size := range b {
			expectSum(t, kind, b[:size], librarySum(kind, b[:size], n))
		}
		for _, x := range []byte{0, 6, 31, 128, 255} {
			same := bytes.Repeat([]byte{x}, 340)
			for size := range same {
				expectSum(t, kind, same[:size], librarySum(kind, same[:size], n))
			}
		}
		long := drawn(85, 1<<20+77)
		expectSum(t, kind, long, librarySum(kind, long, n))
	}
}

// Of each kind any number of bytes may be asked for, of HaSha3256 and HaSha3512 too.
func TestSumOfEachNumberOfBytes(t *testing.T) {
	for _, kind := range kinds {
		for _, size := range []int{0, 1, 71, 72, 135, 136, 167, 168, 400} {
			b := drawn(int64(size), size)
			want := ruledSum(kind, b, 700)
			for n := range want {
				expectSum(t, kind, b, want[:n])
			}
		}
	}
	for _, kind := range []int{api.HaShake128, api.HaShake256} {
		for n := range 700 {
			expectSum(t, kind, []byte("abc"), librarySum(kind, []byte("abc"), n))
		}
	}
}

func TestSumOfNoBytes(t *testing.T) {
	for _, kind := range kinds {
		if got, e := Sum(kind, []byte("abc"), 0); e != api.OK || got != nil {
			t.Errorf("kind %d: %v, %v", kind, got, e)
		}
	}
}

func TestSumOfTooManyBytes(t *testing.T) {
	for _, kind := range kinds {
		for _, n := range []int{math.MinInt, math.MinInt32, -1 << 24, -2, -1, 1<<24 + 1, 1<<24 + 2, 1 << 25, 1 << 31, 1 << 32, math.MaxInt} {
			if got, e := Sum(kind, []byte("abc"), n); e != api.ErrRange || got != nil {
				t.Errorf("kind %d, %d: %d bytes, %v", kind, n, len(got), e)
			}
		}
	}
}

// The most bytes that may be asked for, held against the library's, or against what single rows of rounds tell.
func TestSumOfTheMostBytes(t *testing.T) {
	for _, kind := range kinds {
		got, e := Sum(kind, []byte("abc"), 1<<24)
		if e != api.OK || len(got) != 1<<24 {
			t.Fatalf("kind %d: %d bytes, %v", kind, len(got), e)
		}
		switch kind {
		case api.HaShake128, api.HaShake256:
			if !bytes.Equal(got, librarySum(kind, []byte("abc"), 1<<24)) {
				t.Errorf("kind %d: other bytes", kind)
			}
		default:
			if want := ruledSum(kind, []byte("abc"), 1<<16); !bytes.Equal(got[:1<<16], want) {
				t.Errorf("kind %d: other bytes", kind)
			}
		}
		if less, e := Sum(kind, []byte("abc"), 1<<24-1); e != api.OK || !bytes.Equal(less, got[:1<<24-1]) {
			t.Errorf("kind %d: other bytes, if one less is asked for", kind)
		}
	}
}
