package sha

import (
	"bytes"
	"crypto/sha256"
	"crypto/sha512"
	"encoding/hex"
	"math"
	"math/big"
	"math/rand"
	"slices"
	"strings"
	"testing"

	"apostille/api"
)

// kinds is what there are sums of.
var kinds = []int{api.HaSha256, api.HaSha384, api.HaSha512}

// otherKinds is what there are none of, those of other layers among them.
var otherKinds = []int{math.MinInt, -1, 0, 4, 5, 6, 7, 8, 9, 257, 1 << 32, 1<<32 + 1, math.MaxInt}

// librarySum is the library's word on the sum of a text.
func librarySum(kind int, b []byte) []byte {
	switch kind {
	case api.HaSha256:
		s := sha256.Sum256(b)
		return s[:]
	case api.HaSha384:
		s := sha512.Sum384(b)
		return s[:]
	}
	s := sha512.Sum512(b)
	return s[:]
}

// blockSize is how many bytes a block has, as the chapter says.
func blockSize(kind int) int {
	if kind == api.HaSha256 {
		return 64
	}
	return 128
}

// drawn is bytes that look random, the same for the same seed.
func drawn(seed int64, size int) []byte {
	b := make([]byte, size)
	rand.New(rand.NewSource(seed)).Read(b)
	return b
}

// begun is a sum of nothing.
func begun(t *testing.T, kind int) api.Hash {
	t.Helper()
	h, e := New(kind)
	if e != api.OK {
		t.Fatalf("New(%d): %v", kind, e)
	}
	return h
}

// expectSum fails unless Sum tells so.
func expectSum(t *testing.T, kind int, b, want []byte) {
	t.Helper()
	got, e := Sum(kind, b)
	if e != api.OK || !bytes.Equal(got, want) {
		t.Errorf("Sum(%d) of %d bytes: %x, %v; want %x", kind, len(b), got, e, want)
	}
}

// isZero tells whether a sum that goes on is none.
func isZero(h api.Hash) bool {
	return h.Kind == 0 && h.Words == [8]uint64{} && h.Tail == nil && h.Size == 0
}

func TestTheChaptersExamples(t *testing.T) {
	for kind, want := range map[int][]byte{api.HaSha256: {186, 120, 22, 191}, api.HaSha512: {221, 175, 53, 161}} {
		if got, e := Sum(kind, []byte("abc")); e != api.OK || !bytes.HasPrefix(got, want) {
			t.Errorf("Sum(%d): %v, %v", kind, got, e)
		}
	}
	if _, e := New(9); e != api.ErrAlg {
		t.Errorf("New(9): %v", e)
	}
}

// The examples of FIPS 180-4, so that not all hangs on the library.
func TestTheStandardsExamples(t *testing.T) {
	long := "abcdefghbcdefghicdefghijdefghijkefghijklfghijklmghijklmnhijklmnoijklmnopjklmnopqklmnopqrlmnopqrsmnopqrstnopqrstu"
	for _, x := range []struct {
		kind       int
		text, want string
	}{
		{api.HaSha256, "", "e3b0c44298fc1c149afbf4c8996fb92427ae41e4649b934ca495991b7852b855"},
		{api.HaSha256, "abc", "ba7816bf8f01cfea414140de5dae2223b00361a396177a9cb410ff61f20015ad"},
		{api.HaSha256, "abcdbcdecdefdefgefghfghighijhijkijkljklmklmnlmnomnopnopq", "248d6a61d20638b8e5c026930c3e6039a33ce45964ff2167f6ecedd419db06c1"},
		{api.HaSha256, strings.Repeat("a", 1000000), "cdc76e5c9914fb9281a1c7e284d73e67f1809a48a497200e046d39ccc7112cd0"},
		{api.HaSha384, "abc", "cb00753f45a35e8bb5a03d699ac65007272c32ab0eded1631a8b605a43ff5bed8086072ba1e7cc2358baeca134c825a7"},
		{api.HaSha384, long, "09330c33f71147e83d192fc782cd1b4753111b173b3b05d22fa08086e3b0f712fcc7c71a557e2db966c3e9fa91746039"},
		{api.HaSha512, "abc", "ddaf35a193617abacc417349ae20413112e6fa4e89a97ea20a9eeee64b55d39a2192992a274fc1a836ba3c23a3feebbd454d4423643ce80e2a9ac94fa54ca49f"},
		{api.HaSha512, long, "8e959b75dae313da8cf4f72814fc143f8f7779c6eb9f7fa17299aeadb6889018501d289e4900f7e4331b99dec4b5433ac7d329eeb6dd26545e96e55b874be909"},
	} {
		want, err := hex.DecodeString(x.want)
		if err != nil {
			t.Fatal(err)
		}
		expectSum(t, x.kind, []byte(x.text), want)
	}
}

// The chapter says whence the constants come: the fractions of roots of primes.
func TestTheConstants(t *testing.T) {
	at := 0
	for n := int64(2); at < 80; n++ {
		if !big.NewInt(n).ProbablyPrime(0) {
			continue
		}
		if want := fractionBits(n, 3); cubeRoots[at] != want {
			t.Errorf("the cube root of %d: %x, want %x", n, cubeRoots[at], want)
		}
		if at < 16 {
			if want := fractionBits(n, 2); squareRoots[at] != want {
				t.Errorf("the square root of %d: %x, want %x", n, squareRoots[at], want)
			}
		}
		at++
	}
}

// fractionBits is the first 64 bits of the fraction of a root, found by halving.
func fractionBits(n, power int64) uint64 {
	whole := new(big.Int).Lsh(big.NewInt(n), uint(64*power))
	low, high := big.NewInt(0), new(big.Int).Lsh(big.NewInt(n), 64)
	for {
		middle := new(big.Int).Add(low, high)
		middle.Rsh(middle, 1)
		if middle.Cmp(low) == 0 {
			return new(big.Int).And(low, new(big.Int).SetUint64(math.MaxUint64)).Uint64()
		}
		if new(big.Int).Exp(middle, big.NewInt(power), nil).Cmp(whole) > 0 {
			high = middle
		} else {
			low = middle
		}
	}
}

// P7.1

func TestNew(t *testing.T) {
	narrow := [8]uint64{0x6a09e667, 0xbb67ae85, 0x3c6ef372, 0xa54ff53a, 0x510e527f, 0x9b05688c, 0x1f83d9ab, 0x5be0cd19}
	if h := begun(t, api.HaSha256); h.Words != narrow {
		t.Errorf("HaSha256 begins with %x", h.Words)
	}
	if h := begun(t, api.HaSha384); h.Words != [8]uint64(squareRoots[8:]) {
		t.Errorf("HaSha384 begins with %x", h.Words)
	}
	if h := begun(t, api.HaSha512); h.Words != [8]uint64(squareRoots[:8]) {
		t.Errorf("HaSha512 begins with %x", h.Words)
	}
	for _, kind := range kinds {
		if h := begun(t, kind); h.Kind != kind || h.Tail != nil || h.Size != 0 {
			t.Errorf("New(%d): %+v", kind, h)
		}
	}
}

func TestNoSuchKind(t *testing.T) {
	for _, kind := range otherKinds {
		if h, e := New(kind); e != api.ErrAlg || !isZero(h) {
			t.Errorf("New(%d): %+v, %v", kind, h, e)
		}
		for _, b := range [][]byte{nil, {}, {1}, drawn(1, 200)} {
			if got, e := Sum(kind, b); e != api.ErrAlg || got != nil {
				t.Errorf("Sum(%d): %x, %v", kind, got, e)
			}
		}
	}
}

func TestFit(t *testing.T) {
	full := [8]uint64{math.MaxUint32, math.MaxUint32, math.MaxUint32, math.MaxUint32, math.MaxUint32, math.MaxUint32, math.MaxUint32, math.MaxUint32}
	for _, kind := range kinds {
		block := uint64(blockSize(kind))
		for _, words := range [][8]uint64{{}, full, begun(t, kind).Words} {
			for _, size := range []uint64{0, 1, 63, 64, 65, 127, 128, 129, 1 << 29, 1<<32 + 7, 1<<60 - 128, 1<<60 - 64, 1<<60 - 1} {
				for n := range 260 {
					h := api.Hash{Kind: kind, Words: words, Tail: make([]byte, n), Size: size}
					if want := uint64(n) == size%block; Fit(h) != want {
						t.Errorf("Fit of kind %d, a tail of %d, size %d: %v", kind, n, size, !want)
					}
				}
			}
		}
		for _, size := range []uint64{1 << 60, 1<<60 + 128, 1 << 61, 1 << 63, math.MaxUint64 &^ 127} {
			if Fit(api.Hash{Kind: kind, Size: size}) {
				t.Errorf("kind %d, size %d is fit", kind, size)
			}
		}
		if Fit(api.Hash{Kind: kind, Tail: make([]byte, 127), Size: math.MaxUint64}) {
			t.Errorf("kind %d of the greatest size is fit", kind)
		}
	}
	for _, kind := range otherKinds {
		if Fit(api.Hash{Kind: kind}) || Fit(api.Hash{Kind: kind, Tail: []byte{1}, Size: 1}) {
			t.Errorf("kind %d is fit", kind)
		}
	}
}

func TestFitAsksForTheWords(t *testing.T) {
	for i := range 8 {
		for _, w := range []uint64{math.MaxUint32, 1 << 32, 1<<32 | 5, 1 << 63, math.MaxUint64} {
			for _, kind := range kinds {
				h := api.Hash{Kind: kind}
				h.Words[i] = w
				if want := kind != api.HaSha256 || w <= math.MaxUint32; Fit(h) != want {
					t.Errorf("Fit of kind %d, word %d %x: %v", kind, i, w, !want)
				}
			}
		}
	}
}

func TestSame(t *testing.T) {
	h := api.Hash{Kind: 2, Words: [8]uint64{1, 2, 3, 4, 5, 6, 7, 8}, Tail: []byte{1, 2, 3}, Size: 131}
	copied := h
	copied.Tail = slices.Clone(h.Tail)
	if !Same(h, h) || !Same(h, copied) || !Same(api.Hash{}, api.Hash{}) {
		t.Error("the same is not the same")
	}
	if !Same(api.Hash{Tail: nil}, api.Hash{Tail: []byte{}}) {
		t.Error("an empty tail is none")
	}
	var others []api.Hash
	change := func(do func(*api.Hash)) {
		x := h
		x.Tail = slices.Clone(h.Tail)
		do(&x)
		others = append(others, x)
	}
	for i := range h.Words {
		for bit := range 64 {
			change(func(x *api.Hash) { x.Words[i] ^= 1 << bit })
		}
	}
	for i := range h.Tail {
		for bit := range 8 {
			change(func(x *api.Hash) { x.Tail[i] ^= 1 << bit })
		}
	}
	for bit := range 64 {
		change(func(x *api.Hash) { x.Size ^= 1 << bit })
	}
	change(func(x *api.Hash) { x.Kind = 3 })
	change(func(x *api.Hash) { x.Kind = -2 })
	change(func(x *api.Hash) { x.Kind = 2 | 1<<32 })
	change(func(x *api.Hash) { x.Tail = nil })
	change(func(x *api.Hash) { x.Tail = x.Tail[:2] })
	change(func(x *api.Hash) { x.Tail = append(x.Tail, 0) })
	// What differs twice does not cancel out, neither xored nor added.
	change(func(x *api.Hash) { x.Words[0], x.Words[1] = 3, 0 })
	change(func(x *api.Hash) { x.Words[0], x.Words[1] = 1|1<<63, 2|1<<63 })
	for _, x := range others {
		if Same(h, x) || Same(x, h) {
			t.Errorf("%+v and %+v are the same", h, x)
		}
	}
}

func TestSumOfEachLength(t *testing.T) {
	b := drawn(7, 1100)
	for _, kind := range kinds {
		expectSum(t, kind, nil, librarySum(kind, nil))
		for n := range b {
			expectSum(t, kind, b[:n], librarySum(kind, b[:n]))
		}
		for _, x := range []byte{0, 128, 255} {
			same := bytes.Repeat([]byte{x}, 300)
			for n := range same {
				expectSum(t, kind, same[:n], librarySum(kind, same[:n]))
			}
		}
		long := drawn(8, 1<<20+77)
		expectSum(t, kind, long, librarySum(kind, long))
	}
}
