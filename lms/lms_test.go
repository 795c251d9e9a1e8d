package lms

import (
	"bytes"
	"math"
	"slices"
	"testing"

	"apostille/api"
)

// noHeights is heights that no trees have: all around those that some have, and numbers whose lowest bits are theirs.
func noHeights() []int {
	return around([]int{1, 2, 3, 4, 5, 10, 15, 20, 25})
}

// noWidths is widths that no leaves' digits have.
func noWidths() []int {
	return around([]int{1, 2, 4, 8})
}

// around is numbers that are none of some, but look like them.
func around(some []int) []int {
	l := []int{math.MinInt, math.MinInt + 1, math.MinInt32, math.MaxInt32, math.MaxInt, 1 << 62}
	for _, n := range some {
		l = append(l, -n, 256+n, 1<<16+n, 1<<32+n, 1<<56+n, math.MinInt+n)
	}
	for n := -70; n <= 300; n++ {
		if !slices.Contains(some, n) {
			l = append(l, n)
		}
	}
	return l
}

// noTrees is kinds that are not fit, by their height, by their width, or by both.
func noTrees() []api.Tree {
	l := []api.Tree{{}}
	for _, h := range noHeights() {
		l = append(l, api.Tree{H: h, W: 1}, api.Tree{H: h, W: 8}, api.Tree{H: h, W: 3})
	}
	for _, w := range noWidths() {
		l = append(l, api.Tree{H: 1, W: w}, api.Tree{H: 5, W: w}, api.Tree{H: 25, W: w})
	}
	return l
}

// sixteen and thirtyTwo are an id and a seed of the right length.
var sixteen, thirtyTwo = drawnBytes(1, 16), drawnBytes(2, 32)

// expectError fails unless a call told this error, and nothing beside it.
func expectError(t *testing.T, what string, got []byte, e, want api.Errno) {
	t.Helper()
	if e != want || got != nil {
		t.Errorf("%s: %d bytes, %v; want %v", what, len(got), e, want)
	}
}

// expectCut fails unless Cut tells this signature, of this kind, and what is behind it.
func expectCut(t *testing.T, b, sig []byte, kind api.Tree, behind []byte) {
	t.Helper()
	got, of, rest, e := Cut(b)
	if e != api.OK || !bytes.Equal(got, sig) || of != kind || !bytes.Equal(rest, behind) {
		t.Errorf("Cut of %d bytes: %d bytes of %v, %d behind them, %v; want %d of %v, %d behind them", len(b), len(got), of, len(rest), e, len(sig), kind, len(behind))
	}
}

// expectCutError fails unless Cut tells this error, and nothing beside it.
func expectCutError(t *testing.T, b []byte, want api.Errno) {
	t.Helper()
	sig, kind, behind, e := Cut(b)
	if e != want || sig != nil || behind != nil || kind != (api.Tree{}) {
		t.Errorf("Cut of %d bytes: %d bytes of %v, %d behind them, %v; want %v", len(b), len(sig), kind, len(behind), e, want)
	}
}

// expectVerify fails unless Verify tells this.
func expectVerify(t *testing.T, what string, public, text, sig []byte, want api.Errno) {
	t.Helper()
	if e := Verify(public, text, sig); e != want {
		t.Errorf("%s: %v, want %v", what, e, want)
	}
}

func TestTheChaptersExamples(t *testing.T) {
	if got := Size(api.Tree{H: 5, W: 8}); got != 1292 {
		t.Errorf("Size of H 5 and W 8: %d", got)
	}
	expectVerify(t, "Verify by nothing", nil, nil, nil, api.ErrKey)
	if Fit(api.Tree{H: 6, W: 8}) {
		t.Errorf("H 6 is fit")
	}
}

// P15.1

func TestFitAndSize(t *testing.T) {
	for _, k := range ruledKinds(25) {
		if !Fit(k.Tree) || Size(k.Tree) != k.size() {
			t.Errorf("%v: fit %v, Size %d, want %d", k.Tree, Fit(k.Tree), Size(k.Tree), k.size())
		}
	}
	if n := len(ruledKinds(25)); n != 36 {
		t.Errorf("%d kinds", n)
	}
	for _, kind := range noTrees() {
		if Fit(kind) || Size(kind) != 0 {
			t.Errorf("%v: fit %v, Size %d", kind, Fit(kind), Size(kind))
		}
	}
}

// P15.2

// All leaves of small trees, and leaves at the edges of higher ones.
func TestPublicAndSignByTheRule(t *testing.T) {
	t.Parallel()
	for i, k := range ruledKinds(5) {
		id, seed := drawnBytes(int64(10+i), 16), drawnBytes(int64(40+i), 32)
		sums := ruledTree(k, id, seed)
		got, e := Public(k.Tree, id, seed)
		expect(t, "Public", got, e, k.key(id, sums[1]))
		last := uint32(1)<<k.H - 1
		for q := range last + 1 {
			if k.H > 3 && q > 1 && q < last-1 && q != last/2 && q != last/2+1 {
				continue // each one grows the tree anew
			}
			text := drawnBytes(int64(q), 5*int(q))
			sig, e := Sign(k.Tree, id, seed, q, text)
			expect(t, "Sign", sig, e, ruledSign(k, sums, id, seed, q, text))
			if len(sig) != Size(k.Tree) {
				t.Errorf("%v: %d bytes, want %d", k.Tree, len(sig), Size(k.Tree))
			}
		}
	}
}

// The highest trees that are grown. Those of digits of 8 bits would take long.
func TestTheHighestThatAreGrown(t *testing.T) {
	t.Parallel()
	k, text := ruledKindOf(10, 1), []byte("text")
	sums := ruledTree(k, sixteen, thirtyTwo)
	public, e := Public(k.Tree, sixteen, thirtyTwo)
	expect(t, "Public", public, e, k.key(sixteen, sums[1]))
	for _, q := range []uint32{0, 612, 1023} {
		sig, e := Sign(k.Tree, sixteen, thirtyTwo, q, text)
		expect(t, "Sign", sig, e, ruledSign(k, sums, sixteen, thirtyTwo, q, text))
		expectVerify(t, "Verify", public, text, sig, api.OK)
	}
}

func TestIdsAndSeedsAtTheEnds(t *testing.T) {
	k := ruledKindOf(3, 8)
	for _, x := range []byte{0, 128, 255} {
		id, seed := bytes.Repeat([]byte{x}, 16), bytes.Repeat([]byte{x}, 32)
		sums := ruledTree(k, id, seed)
		got, e := Public(k.Tree, id, seed)
		expect(t, "Public", got, e, k.key(id, sums[1]))
		sig, e := Sign(k.Tree, id, seed, 6, seed)
		expect(t, "Sign", sig, e, ruledSign(k, sums, id, seed, 6, seed))
	}
}

func TestTheLongestText(t *testing.T) {
	text := drawnBytes(110, 1<<24)
	k := ruledKindOf(1, 8)
	sums := ruledTree(k, sixteen, thirtyTwo)
	sig, e := Sign(k.Tree, sixteen, thirtyTwo, 1, text)
	expect(t, "Sign", sig, e, ruledSign(k, sums, sixteen, thirtyTwo, 1, text))
	expectVerify(t, "the longest text", k.key(sixteen, sums[1]), text, sig, api.OK)
	expectVerify(t, "another one", k.key(sixteen, sums[1]), flipped(text, 8<<24-1), sig, api.ErrSig)
}

func TestNoTextIsAnEmptyOne(t *testing.T) {
	k := ruledKindOf(2, 4)
	sums := ruledTree(k, sixteen, thirtyTwo)
	want := ruledSign(k, sums, sixteen, thirtyTwo, 2, nil)
	for _, text := range [][]byte{nil, {}} {
		sig, e := Sign(k.Tree, sixteen, thirtyTwo, 2, text)
		expect(t, "Sign of nothing", sig, e, want)
		expectVerify(t, "Verify of nothing", k.key(sixteen, sums[1]), text, want, api.OK)
	}
}

// expectSecretError fails unless both Public and Sign, by a leaf, tell this error.
func expectSecretError(t *testing.T, kind api.Tree, id, seed []byte, q uint32, want api.Errno) {
	t.Helper()
	got, e := Public(kind, id, seed)
	expectError(t, "Public", got, e, want)
	got, e = Sign(kind, id, seed, q, []byte("text"))
	expectError(t, "Sign", got, e, want)
}

// Rule 0.2: what is not fit is told first.
func TestSecretsOfNoKind(t *testing.T) {
	for _, kind := range noTrees() {
		for _, id := range [][]byte{sixteen, nil, thirtyTwo} {
			for _, seed := range [][]byte{thirtyTwo, nil, sixteen} {
				expectSecretError(t, kind, id, seed, 0, api.ErrAlg)
				expectSecretError(t, kind, id, seed, math.MaxUint32, api.ErrAlg)
			}
		}
	}
}

// Rule 0.2: then what is of another length, ahead of trees that are too high and leaves that are none.
func TestIdsAndSeedsOfAnotherLength(t *testing.T) {
	for _, k := range ruledKinds(25) {
		for _, q := range []uint32{0, 1<<k.H - 1, 1 << k.H, math.MaxUint32} {
			expectSecretError(t, k.Tree, nil, thirtyTwo, q, api.ErrSize)
			expectSecretError(t, k.Tree, sixteen, nil, q, api.ErrSize)
			expectSecretError(t, k.Tree, thirtyTwo, sixteen, q, api.ErrSize)
			for _, size := range []int{256, 1 << 16} {
				expectSecretError(t, k.Tree, make([]byte, size+16), thirtyTwo, q, api.ErrSize)
				expectSecretError(t, k.Tree, sixteen, make([]byte, size+32), q, api.ErrSize)
			}
			for size := range 80 {
				if size != 16 {
					expectSecretError(t, k.Tree, make([]byte, size), thirtyTwo, q, api.ErrSize)
					expectSecretError(t, k.Tree, make([]byte, size), make([]byte, 48-min(size, 48)), q, api.ErrSize)
				}
				if size != 32 {
					expectSecretError(t, k.Tree, sixteen, make([]byte, size), q, api.ErrSize)
				}
			}
		}
	}
}

// Trees above MaxGrown are told as such, whatever the leaf.
func TestTooHighToBeGrown(t *testing.T) {
	for _, h := range []int{15, 20, 25} {
		for _, w := range []int{1, 2, 4, 8} {
			for _, q := range []uint32{0, 1<<h - 1, 1 << h, 1<<h + 1, math.MaxUint32} {
				expectSecretError(t, api.Tree{H: h, W: w}, sixteen, thirtyTwo, q, api.ErrRange)
			}
		}
	}
}

// noLeaves is numbers of leaves that a tree has not: the first ones, and those whose lowest bits are numbers of its own.
func noLeaves(h int) []uint32 {
	l := []uint32{1 << h, 1<<h + 1, 1<<(h+1) - 1, 1 << (h + 1), 1<<(h+1) + 1, math.MaxUint32, math.MaxUint32 - 1}
	for i := h; i < 32; i++ {
		l = append(l, 1<<i)
	}
	return l
}

func TestSignByNoLeaf(t *testing.T) {
	for _, k := range ruledKinds(10) {
		for _, q := range noLeaves(k.H) {
			got, e := Sign(k.Tree, sixteen, thirtyTwo, q, []byte("text"))
			expectError(t, "Sign", got, e, api.ErrSpent)
		}
	}
}

// P15.3

func TestCut(t *testing.T) {
	for i, k := range ruledKinds(25) {
		for _, q := range []uint32{0, 1<<k.H - 1, 1 << k.H, math.MaxUint32} {
			sig := drawnSignature(k, q, int64(200+i))
			expectCut(t, sig, sig, k.Tree, nil)
			if _, _, behind, _ := Cut(sig); behind != nil {
				t.Errorf("%v: what is behind it is not none", k.Tree)
			}
			for _, size := range []int{1, 2, 31, 32, 33, len(sig) - 1, len(sig), len(sig) + 1, 70000} {
				behind := drawnBytes(int64(300+i), size)
				expectCut(t, slices.Concat(sig, behind), sig, k.Tree, behind)
			}
			expectCut(t, slices.Concat(sig, sig), sig, k.Tree, sig)
		}
	}
}

// Whatever is missing, up to the last byte.
func TestCutOfWhatIsTooShort(t *testing.T) {
	expectCutError(t, nil, api.ErrForm)
	for i, k := range ruledKinds(25) {
		sig := drawnSignature(k, 0, int64(400+i))
		for size := range sig {
			expectCutError(t, sig[:size], api.ErrForm)
		}
	}
}

// noHeightCodes and noWidthCodes are typecodes that are none: all near those that are, and those that differ in one bit.
func noHeightCodes() []uint32 {
	return noCodes(ruledHeights)
}

func noWidthCodes() []uint32 {
	return noCodes(ruledWidths)
}

// noCodes is numbers that are none of some typecodes, but look like them.
func noCodes(some []ruledCode) []uint32 {
	candidates := []uint32{math.MaxUint32, 1 << 31, 0xe0000000, 0xe0000019, 0xe0000100, 0xe0ffffff}
	for _, c := range some {
		for i := range 32 {
			candidates = append(candidates, c.code^1<<i)
		}
		candidates = append(candidates, -c.code, uint32(c.number), c.code<<24, c.code&0xff<<8)
	}
	for n := range uint32(300) {
		candidates = append(candidates, n, 0xe0000000+n)
	}
	return slices.DeleteFunc(candidates, func(n uint32) bool {
		return slices.ContainsFunc(some, func(c ruledCode) bool { return c.code == n })
	})
}

// Rule 0.2: a leaf's typecode is told once it is there, ahead of all that is missing behind it.
func TestCutOfNoLeavesKind(t *testing.T) {
	for _, k := range ruledKinds(25) {
		sig := drawnSignature(k, 0, 500)
		for _, code := range noWidthCodes() {
			spoilt := with(sig, 4, four(code))
			for _, size := range []int{8, 9, 100, len(sig) - 1, len(sig)} {
				expectCutError(t, spoilt[:size], api.ErrAlg)
			}
			expectCutError(t, spoilt[:7], api.ErrForm)
			expectCutError(t, with(spoilt, k.codeAt(), four(0)), api.ErrAlg)
		}
	}
}

// Rule 0.2: a tree's typecode is told once it is there, ahead of all that is missing behind it.
func TestCutOfNoTreesKind(t *testing.T) {
	for _, k := range ruledKinds(25) {
		sig := drawnSignature(k, 0, 501)
		for _, code := range noHeightCodes() {
			spoilt := with(sig, k.codeAt(), four(code))
			for _, size := range []int{k.codeAt() + 4, k.codeAt() + 5, len(sig) - 1, len(sig)} {
				expectCutError(t, spoilt[:size], api.ErrAlg)
			}
			expectCutError(t, spoilt[:k.codeAt()+3], api.ErrForm)
			expectCutError(t, spoilt[:k.codeAt()], api.ErrForm)
			expectCutError(t, slices.Concat(spoilt, make([]byte, 900)), api.ErrAlg)
		}
	}
}

// P15.4

// Trees that are too high to be grown here: the sums beside the way up are drawn, and the sum on top is reckoned from them.
func TestVerifyByTheRule(t *testing.T) {
	t.Parallel()
	for i, k := range ruledKinds(25) {
		id, text := drawnBytes(int64(600+i), 16), drawnBytes(int64(650+i), 9*i)
		last := uint32(1)<<k.H - 1
		for _, q := range []uint32{0, 1, last / 2, last/2 + 1, last - 1, last, 0x0155aa55 & last, 0x00aa55aa & last} {
			sig := drawnSignature(k, q, int64(700+i))
			top := ruledTop(k, id, text, sig)
			expectVerify(t, "Verify", k.key(id, top), text, sig, api.OK)
			expectVerify(t, "by another sum on top", k.key(id, flipped(top, i)), text, sig, api.ErrSig)
			expectVerify(t, "by another id", k.key(flipped(id, i), top), text, sig, api.ErrSig)
		}
	}
}

// signed is a small tree's key, and its signature of a text.
func signed(t *testing.T, k ruledKind, text []byte) ([]byte, []byte) {
	t.Helper()
	sums := ruledTree(k, sixteen, thirtyTwo)
	return k.key(sixteen, sums[1]), ruledSign(k, sums, sixteen, thirtyTwo, 1, text)
}

// Whatever bit of a key, a text or a signature is another one.
func TestVerifyOfWhatIsSpoilt(t *testing.T) {
	t.Parallel()
	text := []byte("one text, which is signed")
	for _, k := range []ruledKind{ruledKindOf(3, 1), ruledKindOf(2, 2), ruledKindOf(4, 4), ruledKindOf(5, 8)} {
		public, sig := signed(t, k, text)
		expectVerify(t, "Verify", public, text, sig, api.OK)
		for i := 8 * 8; i < 8*len(public); i++ {
			expectVerify(t, "another id or sum", flipped(public, i), text, sig, api.ErrSig)
		}
		for i := range 8 * len(text) {
			expectVerify(t, "another text", public, flipped(text, i), sig, api.ErrSig)
		}
		expectVerify(t, "a shorter text", public, text[1:], sig, api.ErrSig)
		expectVerify(t, "no text", public, nil, sig, api.ErrSig)
		for at := 8; at < len(sig); at++ {
			if at < k.codeAt() && at%37 != 0 || k.codeAt() <= at && at < k.codeAt()+4 {
				continue // all of a leaf's parts would take long; the typecode has its own tests
			}
			expectVerify(t, "another signature", public, text, flipped(sig, 8*at+at%8), api.ErrSig)
		}
	}
}

func TestVerifyByAnotherLeafsNumber(t *testing.T) {
	for _, k := range []ruledKind{ruledKindOf(1, 8), ruledKindOf(3, 1), ruledKindOf(5, 4)} {
		public, sig := signed(t, k, nil)
		for q := range uint32(1) << k.H {
			if q != 1 {
				expectVerify(t, "by another leaf", public, nil, with(sig, 0, four(q)), api.ErrSig)
			}
		}
		for _, q := range noLeaves(k.H) {
			expectVerify(t, "by no leaf", public, nil, with(sig, 0, four(q)), api.ErrSpent)
			expectVerify(t, "by no leaf, like the right one below", public, nil, with(sig, 0, four(q|1)), api.ErrSpent)
		}
	}
	for _, k := range ruledKinds(25) {
		for _, q := range noLeaves(k.H) {
			expectVerify(t, "by no leaf", k.key(sixteen, thirtyTwo), nil, drawnSignature(k, q, 800), api.ErrSpent)
		}
	}
}

// Whatever else is wrong.
func TestVerifyByNoKey(t *testing.T) {
	k := ruledKindOf(2, 8)
	public, sig := signed(t, k, nil)
	long := slices.Concat(public, make([]byte, 200))
	for _, b := range [][]byte{sig, nil, sig[:9], append(slices.Clone(sig), 1), with(sig, 0, four(9))} {
		for size := range long {
			if size != 56 {
				expectVerify(t, "a key of another length", long[:size], nil, b, api.ErrKey)
			}
		}
		for _, size := range []int{256, 1 << 16} {
			expectVerify(t, "a key of another length", slices.Concat(public, make([]byte, size)), nil, b, api.ErrKey)
		}
		for _, code := range noHeightCodes() {
			expectVerify(t, "a key of no tree's kind", with(public, 0, four(code)), nil, b, api.ErrKey)
		}
		for _, code := range noWidthCodes() {
			expectVerify(t, "a key of no leaves' kind", with(public, 4, four(code)), nil, b, api.ErrKey)
		}
		expectVerify(t, "typecodes the wrong way round", with(public, 0, public[4:8], public[:4]), nil, b, api.ErrKey)
	}
}

// Rule 0.2: what Cut tells comes behind the key, and ahead of the rest.
func TestVerifyTellsCutsError(t *testing.T) {
	for _, k := range ruledKinds(25) {
		public, sig := k.key(sixteen, thirtyTwo), drawnSignature(k, math.MaxUint32, 801)
		for _, other := range ruledKinds(5) {
			public := other.key(sixteen, thirtyTwo)
			expectVerify(t, "no signature", public, nil, nil, api.ErrForm)
			expectVerify(t, "a short signature", public, nil, sig[:7], api.ErrForm)
			expectVerify(t, "a short signature", public, nil, sig[:len(sig)-1], api.ErrForm)
		}
		for _, code := range noWidthCodes() {
			expectVerify(t, "no leaf's kind", public, nil, with(sig, 4, four(code)), api.ErrAlg)
		}
		for _, code := range noHeightCodes() {
			spoilt := with(sig, k.codeAt(), four(code))
			expectVerify(t, "no tree's kind", public, nil, spoilt, api.ErrAlg)
			expectVerify(t, "no tree's kind, and bytes behind", public, nil, append(spoilt, 0), api.ErrAlg)
		}
	}
}

// Rule 0.2: what is behind a signature, or of another kind, comes ahead of a leaf that is none and of a sum that is another one.
func TestVerifyOfWhatIsBehindOrOfAnotherKind(t *testing.T) {
	for _, k := range ruledKinds(25) {
		public := k.key(sixteen, thirtyTwo)
		for _, q := range []uint32{0, 1 << k.H, math.MaxUint32} {
			sig := drawnSignature(k, q, 802)
			for _, behind := range [][]byte{{0}, {1, 2}, make([]byte, 32), public, sig} {
				expectVerify(t, "bytes behind", public, nil, slices.Concat(sig, behind), api.ErrForm)
			}
			for _, other := range ruledKinds(25) {
				if other.Tree != k.Tree {
					expectVerify(t, "another kind", other.key(sixteen, thirtyTwo), nil, sig, api.ErrForm)
				}
			}
		}
	}
	for _, k := range ruledKinds(3) {
		public, sig := signed(t, k, []byte("text"))
		for i := range 300 {
			expectVerify(t, "bytes behind what is right", public, []byte("text"), slices.Concat(sig, make([]byte, i+1)), api.ErrForm)
		}
	}
}
