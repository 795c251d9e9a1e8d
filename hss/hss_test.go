package hss

import (
	"bytes"
	"math"
	"slices"
	"testing"

	"apostille/api"
	"apostille/lms"
)

// expect fails unless a call told these bytes.
func expect(t *testing.T, what string, got []byte, e api.Errno, want []byte) {
	t.Helper()
	if e != api.OK || !bytes.Equal(got, want) {
		t.Errorf("%s: %d bytes, %x, %v; want %d, %x", what, len(got), short(got), e, len(want), short(want))
	}
}

// short is the first bytes of a text, as many as are worth a line.
func short(b []byte) []byte {
	return b[:min(len(b), 64)]
}

// expectVerify fails unless Verify tells this.
func expectVerify(t *testing.T, what string, public, text, sig []byte, want api.Errno) {
	t.Helper()
	if e := Verify(public, text, sig); e != want {
		t.Errorf("%s: %v, want %v", what, e, want)
	}
}

// expectVector fails unless the n-th signature uses these leaves.
func expectVector(t *testing.T, k api.HssKey, n uint64, want []uint32) {
	t.Helper()
	if l, e := Vector(k, n); e != api.OK || !slices.Equal(l, want) {
		t.Errorf("Vector of %d of %v: %v, %v; want %v", n, k.Trees, l, e, want)
	}
}

// expectFit fails unless a key is fit, and can sign so many texts.
func expectFit(t *testing.T, k api.HssKey, leaves uint64) {
	t.Helper()
	if !Fit(k) || Leaves(k) != leaves {
		t.Errorf("%v: fit %v, Leaves %d; want %d", k.Trees, Fit(k), Leaves(k), leaves)
	}
}

// expectUnfit fails unless each call tells that a key is not fit, and nothing beside it, whatever the number.
func expectUnfit(t *testing.T, k api.HssKey) {
	t.Helper()
	if Fit(k) || Leaves(k) != 0 {
		t.Errorf("%v, id of %d, seed of %d: fit %v, Leaves %d", k.Trees, len(k.Id), len(k.Seed), Fit(k), Leaves(k))
	}
	if public, e := Public(k); e != api.ErrKey || public != nil {
		t.Errorf("Public of %v: %d bytes, %v", k.Trees, len(public), e)
	}
	for _, n := range []uint64{0, 1, 1 << 61, math.MaxUint64} {
		expectNone(t, k, n, api.ErrKey)
	}
}

// expectNone fails unless Vector and Sign tell this error, and nothing beside it.
func expectNone(t *testing.T, k api.HssKey, n uint64, want api.Errno) {
	t.Helper()
	if l, e := Vector(k, n); e != want || l != nil {
		t.Errorf("Vector of %d of %v: %v, %v; want %v", n, k.Trees, l, e, want)
	}
	if sig, e := Sign(k, n, []byte("text")); e != want || sig != nil {
		t.Errorf("Sign of %d of %v: %d bytes, %v; want %v", n, k.Trees, len(sig), e, want)
	}
}

func TestTheChaptersExamples(t *testing.T) {
	k := keyOf(1, 2, 8, 3, 8)
	expectFit(t, k, 32)
	expectVector(t, k, 9, []uint32{1, 1})
	expectVerify(t, "Verify by nothing", nil, nil, nil, api.ErrKey)
}

// P16.1

// highKeys is keys that are as high as keys may be, and one that is a little lower.
func highKeys() []api.HssKey {
	return []api.HssKey{
		keyOf(2, 10, 1, 10, 2, 10, 4, 10, 8, 10, 1, 10, 2),
		keyOf(3, 10, 8, 10, 8, 10, 8, 10, 8, 10, 8, 5, 8, 5, 8),
		keyOf(4, 4, 1, 10, 1, 1, 1, 10, 1, 10, 1, 10, 1, 10, 1, 5, 1),
		keyOf(5, 10, 1, 10, 1, 10, 1, 10, 1, 10, 1, 5, 1, 4, 1),
	}
}

// grownHeights is the heights of trees that a key may have.
var grownHeights = []int{1, 2, 3, 4, 5, 10}

func TestFitAndLeaves(t *testing.T) {
	for _, h := range grownHeights {
		for _, w := range []int{1, 2, 4, 8} {
			expectFit(t, keyOf(6, h, w), 1<<h)
			expectFit(t, keyOf(6, h, w, 1, 8), 2<<h)
			expectFit(t, keyOf(6, 2, 8, h, w), 4<<h)
			expectFit(t, keyOf(6, 5, 4, h, w, 10, 1), 1<<15<<h)
		}
	}
	var l []int
	for count := range 8 {
		l = append(l, 5, 2)
		expectFit(t, keyOf(7, l...), 1<<(5*count+5))
	}
	for i, k := range highKeys() {
		expectFit(t, k, []uint64{1 << 60, 1 << 60, 1 << 60, 1 << 59}[i])
	}
}

// What is given more room than it fills is fit all the same.
func TestFitLooksAtNoRoomBehind(t *testing.T) {
	k := keyOf(8, 1, 8, 2, 8, 3, 8)
	k.Trees, k.Id, k.Seed = k.Trees[:2], append(k.Id, 1)[:16], append(k.Seed, 1)[:32]
	expectFit(t, k, 8)
}

func TestKeysOfTooManyTrees(t *testing.T) {
	expectUnfit(t, api.HssKey{})
	expectUnfit(t, keyOf(9))
	for _, count := range []int{9, 10, 16, 60, 61, 64, 256, 257, 1<<16 + 1} {
		expectUnfit(t, keyOf(9, slices.Repeat([]int{1, 8}, count)...))
	}
}

// Trees are together at most 60 high.
func TestKeysThatAreTooHigh(t *testing.T) {
	for _, l := range [][]int{
		{10, 1, 10, 1, 10, 1, 10, 1, 10, 1, 10, 1, 1, 1},
		{1, 8, 10, 8, 10, 8, 10, 8, 10, 8, 10, 8, 10, 8},
		{10, 1, 10, 1, 10, 1, 10, 1, 10, 1, 5, 1, 5, 1, 1, 1},
		{10, 1, 10, 1, 10, 1, 10, 1, 10, 1, 10, 1, 2, 1, 2, 1},
		{10, 1, 10, 1, 10, 1, 10, 1, 10, 1, 10, 1, 10, 1},
		{10, 1, 10, 1, 10, 1, 10, 1, 10, 1, 10, 1, 10, 1, 10, 1},
	} {
		expectUnfit(t, keyOf(10, l...))
	}
}

// noTrees is kinds that a key may not have: some are none, and some too high to be grown.
func noTrees() []api.Tree {
	var l []api.Tree
	for _, h := range []int{-1, 0, 6, 7, 8, 9, 11, 12, 14, 15, 16, 20, 24, 25, 26, 30, 256, 261, 1 << 31, 1<<32 + 5, 1<<60 + 1, math.MaxInt, math.MinInt, math.MinInt + 5} {
		l = append(l, api.Tree{H: h, W: 1}, api.Tree{H: h, W: 8}, api.Tree{H: h})
	}
	for _, w := range []int{-1, 0, 3, 5, 6, 7, 9, 16, 32, 256, 257, 1<<32 + 1, math.MaxInt, math.MinInt, math.MinInt + 8} {
		l = append(l, api.Tree{H: 1, W: w}, api.Tree{H: 5, W: w}, api.Tree{H: 10, W: w})
	}
	return l
}

// A tree that is none, in each place.
func TestKeysOfNoTrees(t *testing.T) {
	for _, none := range noTrees() {
		for _, count := range []int{1, 2, 3, 8} {
			for i := range count {
				k := keyOf(11, slices.Repeat([]int{1, 8}, count)...)
				k.Trees[i] = none
				expectUnfit(t, k)
			}
		}
	}
	// Together they are as high as trees may be.
	for _, l := range [][]int{{15, 1}, {25, 8}, {15, 1, 15, 1, 15, 1, 15, 1}, {-1, 1, 2, 1}, {math.MaxInt, 1, math.MinInt, 1, 2, 1}} {
		expectUnfit(t, keyOf(11, l...))
	}
}

func TestIdsAndSeedsOfAnotherLength(t *testing.T) {
	for _, l := range [][]int{{1, 8}, {2, 4, 3, 2}, {1, 1, 1, 1, 1, 1, 1, 1, 1, 1, 1, 1, 1, 1, 1, 1}} {
		for _, size := range append([]int{64, 128, 256, 272, 288, 1 << 16, 1<<16 + 16, 1<<16 + 32}, upTo(50)...) {
			k, other := keyOf(12, l...), keyOf(12, l...)
			if k.Id = drawnBytes(13, size); size != 16 {
				expectUnfit(t, k)
			}
			if other.Seed = drawnBytes(14, size); size != 32 {
				expectUnfit(t, other)
			}
			k.Seed = drawnBytes(15, 48-min(48, size))
			if size != 16 {
				expectUnfit(t, k)
			}
		}
	}
	k := keyOf(12, 1, 8)
	k.Id, k.Seed = k.Seed, k.Id
	expectUnfit(t, k)
	expectUnfit(t, api.HssKey{Trees: k.Trees})
}

// upTo is all numbers below one.
func upTo(n int) []int {
	var l []int
	for i := range n {
		l = append(l, i)
	}
	return l
}

// Numbers whose leaves can be told by hand: the last tree's are the lowest bits.
func TestVectorByHand(t *testing.T) {
	k := keyOf(16, 10, 1, 1, 2, 5, 4, 4, 8)
	expectVector(t, k, 0, []uint32{0, 0, 0, 0})
	expectVector(t, k, 15, []uint32{0, 0, 0, 15})
	expectVector(t, k, 16, []uint32{0, 0, 1, 0})
	expectVector(t, k, 511, []uint32{0, 0, 31, 15})
	expectVector(t, k, 512, []uint32{0, 1, 0, 0})
	expectVector(t, k, 1024, []uint32{1, 0, 0, 0})
	expectVector(t, k, 0b1010110011_1_01010_1100, []uint32{0b1010110011, 1, 0b01010, 0b1100})
	expectVector(t, k, 1<<20-1, []uint32{1023, 1, 31, 15})
	for _, k := range highKeys() {
		last := Leaves(k) - 1
		var want []uint32
		for _, tree := range k.Trees {
			want = append(want, 1<<tree.H-1)
		}
		expectVector(t, k, last, want)
		want[len(want)-1]--
		expectVector(t, k, last-1, want)
		want = make([]uint32, len(want))
		expectVector(t, k, 0, want)
		want[0] = 1 << (k.Trees[0].H - 1)
		expectVector(t, k, last/2+1, want)
	}
	expectVector(t, keyOf(17, 10, 8), 613, []uint32{613})
}

// spentNumbers is numbers that a key that is so high has no signature of: the first ones, and those whose lowest bits are numbers of its own.
func spentNumbers(height uint64) []uint64 {
	l := []uint64{1<<height + 1, 1<<height + 5, 1<<(height+1) - 1, 1<<(height+1) + 1, 1<<32<<(height%8) + 1<<height, math.MaxUint64, math.MaxUint64 - 1}
	for i := height; i < 64; i++ {
		l = append(l, 1<<i)
	}
	return l
}

func TestSpentKeys(t *testing.T) {
	keys := append(highKeys(), keyOf(18, 1, 8), keyOf(18, 10, 8), keyOf(18, 2, 8, 3, 8), keyOf(18, 1, 1, 1, 1, 1, 1, 1, 1, 1, 1, 1, 1, 1, 1, 1, 1))
	for _, k := range keys {
		for _, n := range spentNumbers(ruledHeight(k.Trees)) {
			expectNone(t, k, n, api.ErrSpent)
		}
	}
}

// P16.2

func TestPublicByTheRule(t *testing.T) {
	t.Parallel()
	for i, l := range [][]int{{1, 8}, {3, 1}, {5, 2, 10, 8}, {4, 4, 1, 8, 10, 8}, {2, 8, 10, 8, 10, 8, 10, 8, 10, 8, 10, 8}, {1, 8, 10, 8, 10, 8, 10, 8, 10, 8, 10, 8, 5, 8, 4, 8}, {10, 1}} {
		k := keyOf(int64(20+i), l...)
		key, _ := lms.Public(k.Trees[0], k.Id, k.Seed)
		got, e := Public(k)
		expect(t, "Public", got, e, slices.Concat(four(uint32(len(k.Trees))), key))
		if len(got) != 60 {
			t.Errorf("a key of %d bytes", len(got))
		}
	}
}

// All numbers of small keys.
func TestSignByTheRule(t *testing.T) {
	t.Parallel()
	for i, l := range [][]int{{1, 1}, {2, 4}, {4, 1}, {1, 2, 1, 1}, {1, 8, 2, 2}, {2, 1, 1, 4}, {2, 2, 2, 1}, {1, 1, 1, 2, 1, 1}, {1, 1, 2, 1, 1, 2}, {1, 4, 1, 2, 1, 1, 2, 1}} {
		k := keyOf(int64(30+i), l...)
		public, _ := Public(k)
		for n := range uint64(1) << ruledHeight(k.Trees) {
			text := drawnBytes(int64(n), 7*int(n))
			sig, e := Sign(k, n, text)
			expect(t, "Sign", sig, e, ruledSign(k, n, text))
			expectVerify(t, "Verify", public, text, sig, api.OK)
		}
	}
}

// Numbers here and there of higher keys, of as many levels as there may be.
func TestSignOfMoreLevelsByTheRule(t *testing.T) {
	t.Parallel()
	for i, l := range [][]int{{5, 1, 4, 1}, {1, 1, 2, 1, 3, 1, 4, 1, 5, 1}, {2, 1, 1, 2, 2, 1, 1, 2, 2, 1, 1, 2, 2, 1, 1, 4}, {1, 1, 1, 1, 1, 1, 1, 1, 1, 1, 1, 1, 1, 1}} {
		k := keyOf(int64(50+i), l...)
		leaves := uint64(1) << ruledHeight(k.Trees)
		for _, n := range []uint64{0, 1, leaves / 3, leaves / 2, 0x5a3c6 % leaves, leaves - 2, leaves - 1} {
			text := drawnBytes(int64(n), 11)
			sig, e := Sign(k, n, text)
			expect(t, "Sign", sig, e, ruledSign(k, n, text))
		}
	}
}

// The highest keys there are. Digits of more bits would take long.
func TestSignOfTheHighestKey(t *testing.T) {
	t.Parallel()
	k := keyOf(60, 10, 1, 10, 1, 10, 1, 10, 1, 10, 1, 10, 1)
	public, _ := Public(k)
	const n = 1023<<50 + 1<<40 + 512<<30 + 0<<20 + 614<<10 + 1022
	sig, e := Sign(k, n, []byte("text"))
	if e != api.OK {
		t.Fatalf("Sign: %v", e)
	}
	expectVerify(t, "Verify", public, []byte("text"), sig, api.OK)
	if l := signers(t, sig); !slices.Equal(l, []uint32{1023, 1, 512, 0, 614, 1022}) {
		t.Errorf("leaves %v", l)
	}
	expectVector(t, k, n, signers(t, sig))
}

// signers is the leaves by which a signature's levels are signed.
func signers(t *testing.T, sig []byte) []uint32 {
	t.Helper()
	var l []uint32
	for rest := sig[4:]; ; rest = rest[56:] {
		own, _, behind, e := lms.Cut(rest)
		if e != api.OK {
			t.Fatalf("Cut: %v", e)
		}
		l = append(l, uint32(own[0])<<24+uint32(own[1])<<16+uint32(own[2])<<8+uint32(own[3]))
		if rest = behind; len(rest) < 56 {
			return l
		}
	}
}

func TestIdsAndSeedsAtTheEnds(t *testing.T) {
	for _, x := range []byte{0, 128, 255} {
		k := api.HssKey{Trees: treesOf(2, 1, 1, 2, 2, 1), Id: bytes.Repeat([]byte{x}, 16), Seed: bytes.Repeat([]byte{x}, 32)}
		for _, n := range []uint64{0, 19, 31} {
			sig, e := Sign(k, n, []byte("text"))
			expect(t, "Sign", sig, e, ruledSign(k, n, []byte("text")))
		}
	}
}

func TestTheLongestText(t *testing.T) {
	t.Parallel()
	text := drawnBytes(70, 1<<24)
	for _, k := range []api.HssKey{keyOf(71, 1, 1), keyOf(71, 1, 1, 1, 2)} {
		public, _ := Public(k)
		sig, e := Sign(k, 1, text)
		expect(t, "Sign", sig, e, ruledSign(k, 1, text))
		expectVerify(t, "the longest text", public, text, sig, api.OK)
		expectVerify(t, "another one", public, flipped(text, 8<<24-1), sig, api.ErrSig)
	}
}

func TestNoTextIsAnEmptyOne(t *testing.T) {
	k := keyOf(72, 1, 2, 1, 2)
	public, _ := Public(k)
	want := ruledSign(k, 2, nil)
	for _, text := range [][]byte{nil, {}} {
		sig, e := Sign(k, 2, text)
		expect(t, "Sign of nothing", sig, e, want)
		expectVerify(t, "Verify of nothing", public, text, want, api.OK)
	}
}
