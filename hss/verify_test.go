package hss

import (
	"math"
	"math/rand"
	"slices"
	"testing"

	"apostille/api"
)

// P16.3

// drawnTrees is trees of any kind, up to the highest there are.
func drawnTrees(r *rand.Rand, count int) []api.Tree {
	heights, widths := []int{1, 2, 3, 4, 5, 10, 15, 20, 25}, []int{1, 2, 4, 8}
	l := make([]api.Tree, count)
	for i := range l {
		l[i] = api.Tree{H: heights[r.Intn(len(heights))], W: widths[r.Intn(len(widths))]}
	}
	return l
}

// Trees of any height, too, of which together more would be too high for a key that signs here.
func TestVerifyByTheRule(t *testing.T) {
	t.Parallel()
	r := rand.New(rand.NewSource(163))
	for count := 1; count <= 8; count++ {
		for range 6 {
			c := drawnChain(drawnTrees(r, count), drawnBytes(r.Int63(), r.Intn(300)), r.Int63(), nil)
			public, sig := c.public(), c.sig()
			expectVerify(t, "Verify", public, c.text, sig, api.OK)
			expectVerify(t, "another text", public, append(c.text, 0), sig, api.ErrSig)
			expectVerify(t, "another key", flipped(public, 8*12+r.Intn(8*48)), c.text, sig, api.ErrSig)
		}
	}
	c := drawnChain(treesOf(25, 1, 25, 1, 25, 1, 25, 1, 25, 1, 25, 1, 25, 1, 25, 1), nil, 164, nil)
	expectVerify(t, "the highest trees", c.public(), nil, c.sig(), api.OK)
}

// Each tree's signature and key, whatever of them is another one.
func TestVerifyOfWhatIsSpoilt(t *testing.T) {
	t.Parallel()
	c := drawnChain(treesOf(3, 1, 25, 2, 2, 1), []byte("one text, which is signed"), 165, nil)
	public, sig := c.public(), c.sig()
	for i := range 8 * len(c.text) {
		expectVerify(t, "another text", public, flipped(c.text, i), sig, api.ErrSig)
	}
	for i := 8 * 12; i < 8*60; i++ {
		expectVerify(t, "another id or sum of the key", flipped(public, i), c.text, sig, api.ErrSig)
	}
	at := 4
	for i, part := range c.sigs {
		for place := 8; place < len(part); place += 61 {
			if place < codeAt(c.trees[i]) || place >= codeAt(c.trees[i])+4 {
				expectVerify(t, "another signature", public, c.text, flipped(sig, 8*(at+place)+place%8), api.ErrSig)
			}
		}
		at += len(part)
		if i < len(c.sigs)-1 {
			for bit := range 8 * 56 {
				expectVerify(t, "another key below", public, c.text, flipped(sig, 8*at+bit), api.ErrSig)
			}
			at += 56
		}
	}
}

// Whatever else is wrong.
func TestVerifyByNoKey(t *testing.T) {
	c := drawnChain(treesOf(2, 2, 1, 2), nil, 166, nil)
	public, sig := c.public(), c.sig()
	long := slices.Concat(public, make([]byte, 200))
	for _, b := range [][]byte{sig, nil, sig[:3], sig[:9], with(sig, 0, four(7)), append(slices.Clone(sig), 1), with(sig, 8, four(0))} {
		for size := range long {
			if size != 60 {
				expectVerify(t, "a key of another length", long[:size], nil, b, api.ErrKey)
			}
		}
		for _, size := range []int{256, 1 << 16} {
			expectVerify(t, "a key of another length", slices.Concat(public, make([]byte, size)), nil, b, api.ErrKey)
		}
		for _, count := range noCounts() {
			expectVerify(t, "a key of another number", with(public, 0, four(count)), nil, b, api.ErrKey)
			expectVerify(t, "a key and a signature of another number", with(public, 0, four(count)), nil, with(b, 0, four(count - 1)[:min(len(b), 4)]), api.ErrKey)
		}
	}
}

// noCounts is numbers that no keys' levels are: all near those that are, and those whose lowest or highest bits are one.
func noCounts() []uint32 {
	l := []uint32{0, math.MaxUint32, math.MaxUint32 - 1, 0x01000000, 0x02000000, 0x00020000, 0x0200, 0x0102, 0x10002, 0x01000002, 0x80000001, 0xffff0001}
	for n := uint32(9); n < 300; n++ {
		l = append(l, n)
	}
	return l
}

// Rule 0.2: how many levels a signature says it has comes behind the key's number, and ahead of all that is in it.
func TestVerifyOfAnotherNumber(t *testing.T) {
	for count := 1; count <= 8; count++ {
		c := drawnChain(treesOf(slices.Repeat([]int{1, 2}, count)...), nil, int64(170+count), nil)
		public, sig := c.public(), c.sig()
		expectVerify(t, "Verify", public, nil, sig, api.OK)
		for _, b := range [][]byte{nil, {}, sig[:1], sig[:2], sig[:3], make([]byte, 3)} {
			expectVerify(t, "no number", public, nil, b, api.ErrForm)
		}
		for n := range uint32(10) {
			other := with(sig, 0, four(n))
			if n == uint32(count-1) {
				continue
			}
			for _, b := range [][]byte{other, other[:4], with(other, 8, four(0)), append(other, 1)} {
				expectVerify(t, "another number", public, nil, b, api.ErrForm)
			}
			expectVerify(t, "another number of a key of no trees", with(public, 4, make([]byte, 8)), nil, other, api.ErrForm)
			if n < 8 {
				expectVerify(t, "a key of another number", with(public, 0, four(n+1)), nil, sig, api.ErrForm)
			}
		}
		for _, n := range append(noCounts(), uint32(count-1)<<24|1<<31, uint32(count-1)|1<<8, uint32(count-1)|1<<31) {
			if n != uint32(count-1) {
				expectVerify(t, "another number", public, nil, with(sig, 0, four(n)), api.ErrForm)
			}
		}
	}
}

// fault is something that is wrong with a level, and what is told of it.
type fault struct {
	what string
	spoil
	want api.Errno
}

// faults is what can be wrong with a level, in the order in which it is told: what Cut tells, then what Verify does.
var faults = []fault{
	{"no leaf's kind", func(_ api.Tree, key, sig []byte) ([]byte, []byte) { return key, with(sig, 4, four(5)) }, api.ErrAlg},
	{"no tree's kind", func(t api.Tree, key, sig []byte) ([]byte, []byte) { return key, with(sig, codeAt(t), four(4)) }, api.ErrAlg},
	{"no key", func(_ api.Tree, key, sig []byte) ([]byte, []byte) { return with(key, 4, four(0)), sig }, api.ErrKey},
	{"another kind", func(_ api.Tree, key, sig []byte) ([]byte, []byte) { return with(key, 0, four(9)), sig }, api.ErrForm},
	{"no leaf", func(_ api.Tree, key, sig []byte) ([]byte, []byte) { return key, with(sig, 0, four(1<<30)) }, api.ErrSpent},
	{"another signature", func(_ api.Tree, key, sig []byte) ([]byte, []byte) { return key, flipped(sig, 8*len(sig)-1) }, api.ErrSig},
}

// both is two faults of one level.
func both(a, b fault) spoil {
	return func(t api.Tree, key, sig []byte) ([]byte, []byte) {
		key, sig = a.spoil(t, key, sig)
		return b.spoil(t, key, sig)
	}
}

// Each fault in each level, of however many.
func TestFaultsOfALevel(t *testing.T) {
	t.Parallel()
	for count := 1; count <= 8; count++ {
		trees := treesOf(slices.Repeat([]int{3, 1, 2, 2, 4, 1, 1, 2}, 2)...)[:count]
		for at := range trees {
			for _, f := range faults {
				c := drawnChain(trees, []byte("text"), int64(180+at), map[int]spoil{at: f.spoil})
				expectVerify(t, f.what, c.public(), []byte("text"), c.sig(), f.want)
			}
		}
	}
}

// Rule 0.2: of two faults of one level the first one is told, of two levels' the upper one's.
func TestTheOrderOfFaults(t *testing.T) {
	t.Parallel()
	trees := treesOf(3, 1, 2, 2, 4, 1)
	for i, first := range faults {
		for j, second := range faults {
			for at := range trees {
				if i < j {
					c := drawnChain(trees, nil, 190, map[int]spoil{at: both(first, second)})
					expectVerify(t, first.what+" and "+second.what, c.public(), nil, c.sig(), first.want)
				}
				for below := at + 1; below < len(trees); below++ {
					c := drawnChain(trees, nil, 191, map[int]spoil{at: first.spoil, below: second.spoil})
					expectVerify(t, first.what+" above "+second.what, c.public(), nil, c.sig(), first.want)
				}
			}
		}
	}
}

// Wherever a signature is cut off, though what is ahead of it is right.
func TestVerifyOfWhatIsCutOff(t *testing.T) {
	t.Parallel()
	c := drawnChain(treesOf(1, 2, 2, 2), []byte("text"), 192, nil)
	public, sig := c.public(), c.sig()
	for size := range sig {
		expectVerify(t, "cut off", public, c.text, sig[:size], api.ErrForm)
	}
	c = drawnChain(treesOf(1, 2, 2, 1, 1, 2, 3, 2), nil, 193, nil)
	public, sig = c.public(), c.sig()
	for _, end := range c.ends()[:len(c.ends())-1] {
		for size := end - 57; size <= end+57; size++ {
			expectVerify(t, "cut off near a part's end", public, nil, sig[:max(size, 0)], api.ErrForm)
		}
	}
}

// Rule 0.2: that something is missing behind a level's signature is told ahead of what is wrong with this, and behind what is wrong above and what Cut tells.
func TestTheOrderOfFaultsOfWhatIsCutOff(t *testing.T) {
	t.Parallel()
	trees := treesOf(3, 1, 2, 2, 4, 1)
	for _, f := range faults {
		for at := range trees {
			c := drawnChain(trees, nil, 194, map[int]spoil{at: f.spoil})
			public, sig, ends := c.public(), c.sig(), c.ends()
			for place, end := range ends[1:] {
				for _, size := range []int{ends[place], ends[place] + 1, end - 1} {
					want := api.ErrForm
					told := place > 2*at+1 || place == 2*at+1 && f.want == api.ErrAlg
					if told || place == 2*at && size == end-1 && f.want == api.ErrAlg {
						want = f.want
					}
					expectVerify(t, f.what+", cut off", public, nil, sig[:size], want)
				}
			}
		}
	}
}

// Rule 0.2: that something is behind the last signature is told ahead of what is wrong with it, and behind what is wrong above and what Cut tells.
func TestVerifyOfWhatIsBehind(t *testing.T) {
	t.Parallel()
	for count := 1; count <= 8; count++ {
		trees := treesOf(slices.Repeat([]int{1, 2}, count)...)
		c := drawnChain(trees, nil, 195, nil)
		for _, behind := range [][]byte{{0}, {1, 2, 3}, make([]byte, 56), c.keys[0], c.sigs[0], slices.Concat(c.keys[0], c.sigs[0]), c.sig()} {
			expectVerify(t, "bytes behind", c.public(), nil, slices.Concat(c.sig(), behind), api.ErrForm)
		}
		for _, f := range faults {
			for at := range trees {
				c := drawnChain(trees, nil, 196, map[int]spoil{at: f.spoil})
				want := f.want
				if at == count-1 && f.want != api.ErrAlg {
					want = api.ErrForm
				}
				expectVerify(t, f.what+", and bytes behind", c.public(), nil, append(c.sig(), 0), want)
			}
		}
	}
}

// The key below is what is told behind the signature of it, not any other key by which what follows would be right.
func TestVerifyByAnotherKeyBelow(t *testing.T) {
	trees := treesOf(2, 1, 2, 1, 2, 1)
	a, b := drawnChain(trees, nil, 197, nil), drawnChain(trees, nil, 198, nil)
	for at := 1; at < len(trees); at++ {
		c := chain{trees, nil, slices.Clone(a.keys), slices.Clone(a.sigs)}
		copy(c.keys[at:], b.keys[at:])
		copy(c.sigs[at:], b.sigs[at:])
		expectVerify(t, "another key, and what it signs", c.public(), nil, c.sig(), api.ErrSig)
		c.keys[at] = a.keys[at]
		expectVerify(t, "what another key signs", c.public(), nil, c.sig(), api.ErrSig)
	}
}

// The last tree signs the text alone, the others keys alone.
func TestVerifyOfAKeyForAText(t *testing.T) {
	c := drawnChain(treesOf(2, 1, 1, 2), []byte("text"), 199, nil)
	top := slices.Concat(four(1), c.keys[0])
	expectVerify(t, "the key below as a text", top, c.keys[1], slices.Concat(four(0), c.sigs[0]), api.OK)
	expectVerify(t, "the text by the top tree", top, c.text, slices.Concat(four(0), c.sigs[0]), api.ErrSig)
	lower := slices.Concat(four(1), c.keys[1])
	expectVerify(t, "the text by the lower tree", lower, c.text, slices.Concat(four(0), c.sigs[1]), api.OK)
}
