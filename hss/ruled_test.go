package hss

import (
	"crypto/sha256"
	"encoding/binary"
	"math/rand"
	"slices"

	"apostille/api"
	"apostille/lmots"
	"apostille/lms"
)

// The chapter's words, reckoned by the library's sums: a tree asks for the one below it, and what trees and leaves tell is lms's and lmots's, which have their own tests.

// four is a number of 32 bits.
func four(n uint32) []byte {
	return binary.BigEndian.AppendUint32(nil, n)
}

// ruledSum is the library's sum of texts, one behind the other.
func ruledSum(l ...[]byte) []byte {
	s := sha256.Sum256(slices.Concat(l...))
	return s[:]
}

// ruledHeight is how high trees are together.
func ruledHeight(trees []api.Tree) uint64 {
	if len(trees) == 0 {
		return 0
	}
	return uint64(trees[0].H) + ruledHeight(trees[1:])
}

// ruledBelow is id and seed of the tree below a leaf.
func ruledBelow(id, seed []byte, q uint32) ([]byte, []byte) {
	return ruledSum(id, four(q), []byte{0xff, 0xff, 0xff}, seed)[:16], ruledSum(id, four(q), []byte{0xff, 0xfe, 0xff}, seed)
}

// ruledSign is the n-th signature of a text.
func ruledSign(k api.HssKey, n uint64, text []byte) []byte {
	return slices.Concat(four(uint32(len(k.Trees)-1)), ruledLevels(k.Trees, k.Id, k.Seed, n, text))
}

// ruledLevels is what the n-th signature has of these trees, which stand below one another: how often those below can sign divides n into what is the top one's and what is theirs.
func ruledLevels(trees []api.Tree, id, seed []byte, n uint64, text []byte) []byte {
	share := uint64(1)
	for range ruledHeight(trees[1:]) {
		share *= 2
	}
	q := uint32(n / share)
	if len(trees) == 1 {
		out, _ := lms.Sign(trees[0], id, seed, q, text)
		return out
	}
	belowId, belowSeed := ruledBelow(id, seed, q)
	key, _ := lms.Public(trees[1], belowId, belowSeed)
	out, _ := lms.Sign(trees[0], id, seed, q, key)
	return slices.Concat(out, key, ruledLevels(trees[1:], belowId, belowSeed, n%share, text))
}

// treesOf is trees by their heights and widths, in turn.
func treesOf(l ...int) []api.Tree {
	var trees []api.Tree
	for pair := range slices.Chunk(l, 2) {
		trees = append(trees, api.Tree{H: pair[0], W: pair[1]})
	}
	return trees
}

// keyOf is a key of trees by their heights and widths, in turn, whose id and seed are drawn.
func keyOf(seed int64, l ...int) api.HssKey {
	return api.HssKey{Trees: treesOf(l...), Id: drawnBytes(seed, 16), Seed: drawnBytes(seed+1000, 32)}
}

// codes is the typecodes of trees by their heights, and of leaves by their widths.
var (
	heightCodes = map[int]uint32{1: 0xe0000001, 2: 0xe0000002, 3: 0xe0000003, 4: 0xe0000004, 5: 5, 10: 6, 15: 7, 20: 8, 25: 9}
	widthCodes  = map[int]uint32{1: 1, 2: 2, 4: 3, 8: 4}
)

// codeAt is where the signatures of a tree have its typecode.
func codeAt(t api.Tree) int {
	return map[int]int{1: 8520, 2: 4296, 4: 2184, 8: 1128}[t.W]
}

// drawnTree is a tree's signature of a text by a leaf, drawn but for its number and typecodes, and the tree's key, by which it is right: its sum on top is the one that the signature leads to. So it can be as high as it likes.
func drawnTree(t api.Tree, q uint32, text []byte, seed int64) ([]byte, []byte) {
	id, at := drawnBytes(seed+1, 16), codeAt(t)
	sig := drawnBytes(seed, at+4+32*t.H)
	copy(sig, four(q))
	copy(sig[4:], four(widthCodes[t.W]))
	copy(sig[at:], four(heightCodes[t.H]))
	sum, _ := lmots.Candidate(t.W, id, q, text, sig[4:at])
	knot := 1<<t.H + q
	sum = ruledSum(id, four(knot), []byte{0x82, 0x82}, sum)
	for beside := range slices.Chunk(sig[at+4:], 32) {
		pair := [][]byte{sum, beside}
		if knot%2 == 1 {
			pair = [][]byte{beside, sum}
		}
		knot /= 2
		sum = ruledSum(id, four(knot), []byte{0x83, 0x83}, pair[0], pair[1])
	}
	return slices.Concat(four(heightCodes[t.H]), four(widthCodes[t.W]), id, sum), sig
}

// chain is the keys of trees that stand below one another, from the top on, each one's signature of the key below, and the last one's of a text.
type chain struct {
	trees      []api.Tree
	text       []byte
	keys, sigs [][]byte
}

// spoil changes a tree's key and signature.
type spoil func(t api.Tree, key, sig []byte) ([]byte, []byte)

// drawnChain is a chain by drawn leaves that is right but for what is spoilt, by its level: the tree above signs the key as it is told.
func drawnChain(trees []api.Tree, text []byte, seed int64, spoilt map[int]spoil) chain {
	r := rand.New(rand.NewSource(seed))
	c := chain{trees, text, make([][]byte, len(trees)), make([][]byte, len(trees))}
	for i, t := range slices.Backward(trees) {
		c.keys[i], c.sigs[i] = drawnTree(t, r.Uint32()&(1<<t.H-1), text, r.Int63n(1<<60))
		if change, ok := spoilt[i]; ok {
			c.keys[i], c.sigs[i] = change(t, c.keys[i], c.sigs[i])
		}
		text = c.keys[i]
	}
	return c
}

// public is the key to verify by.
func (c chain) public() []byte {
	return slices.Concat(four(uint32(len(c.trees))), c.keys[0])
}

// sig is the signature.
func (c chain) sig() []byte {
	out := slices.Concat(four(uint32(len(c.trees)-1)), c.sigs[0])
	for i := 1; i < len(c.trees); i++ {
		out = slices.Concat(out, c.keys[i], c.sigs[i])
	}
	return out
}

// ends is where the signature's parts end: the number, and each tree's signature and the key behind it, in turn.
func (c chain) ends() []int {
	l := []int{4}
	for i, sig := range c.sigs {
		l = append(l, l[len(l)-1]+len(sig))
		if i < len(c.sigs)-1 {
			l = append(l, l[len(l)-1]+56)
		}
	}
	return l
}

// drawnBytes is bytes that look random, the same for the same seed.
func drawnBytes(seed int64, size int) []byte {
	b := make([]byte, size)
	rand.New(rand.NewSource(seed)).Read(b)
	return b
}

// flipped is a text one of whose bits is another one.
func flipped(b []byte, bit int) []byte {
	out := slices.Clone(b)
	out[bit/8] ^= 128 >> (bit % 8)
	return out
}

// with is a text in which another one stands from a place on.
func with(b []byte, at int, other []byte) []byte {
	out := slices.Clone(b)
	copy(out[at:], other)
	return out
}
