package lms

import (
	"crypto/sha256"
	"encoding/binary"
	"math/rand"
	"slices"

	"apostille/api"
	"apostille/lmots"
)

// The chapter's words, reckoned by the library's sums: a knot's sum asks for those below it, and what leaves tell is lmots's, which has its own tests.

// ruledHeights and ruledWidths are the typecodes of the chapter's words.
var (
	ruledHeights = []ruledCode{{1, 0xe0000001}, {2, 0xe0000002}, {3, 0xe0000003}, {4, 0xe0000004}, {5, 5}, {10, 6}, {15, 7}, {20, 8}, {25, 9}}
	ruledWidths  = []ruledCode{{1, 1}, {2, 2}, {4, 3}, {8, 4}}
)

// ruledCode is a height or a width, and its typecode.
type ruledCode struct {
	number int
	code   uint32
}

// ruledKind is a kind, its typecodes, and how many bytes its leaves' signatures have.
type ruledKind struct {
	api.Tree
	high, wide uint32
	leafSize   int
}

// ruledKinds is all kinds up to a height.
func ruledKinds(highest int) []ruledKind {
	sizes := map[int]int{1: 8516, 2: 4292, 4: 2180, 8: 1124}
	var l []ruledKind
	for _, h := range ruledHeights {
		for _, w := range ruledWidths {
			if h.number <= highest {
				l = append(l, ruledKind{api.Tree{H: h.number, W: w.number}, h.code, w.code, sizes[w.number]})
			}
		}
	}
	return l
}

// ruledKindOf is the kind with its typecodes.
func ruledKindOf(h, w int) ruledKind {
	for _, k := range ruledKinds(25) {
		if k.Tree == (api.Tree{H: h, W: w}) {
			return k
		}
	}
	panic("no such kind")
}

// size is how many bytes a signature has.
func (k ruledKind) size() int {
	return 4 + k.leafSize + 4 + 32*k.H
}

// codeAt is where a signature has the tree's typecode.
func (k ruledKind) codeAt() int {
	return 4 + k.leafSize
}

// key is a key of a sum on top.
func (k ruledKind) key(id, top []byte) []byte {
	return slices.Concat(four(k.high), four(k.wide), id, top)
}

// four is a number of 32 bits.
func four(n uint32) []byte {
	return binary.BigEndian.AppendUint32(nil, n)
}

// ruledSum is the library's sum of texts, one behind the other.
func ruledSum(l ...[]byte) []byte {
	s := sha256.Sum256(slices.Concat(l...))
	return s[:]
}

// ruledLeaf is the sum of a knot that is a leaf.
func ruledLeaf(id []byte, n uint32, key []byte) []byte {
	return ruledSum(id, four(n), []byte{0x82, 0x82}, key)
}

// ruledAbove is the sum of a knot above two others.
func ruledAbove(id []byte, n uint32, left, right []byte) []byte {
	return ruledSum(id, four(n), []byte{0x83, 0x83}, left, right)
}

// ruledTree is the sums of a tree's knots, by their numbers.
func ruledTree(k ruledKind, id, seed []byte) map[uint32][]byte {
	sums := map[uint32][]byte{}
	var knot func(n uint32) []byte
	knot = func(n uint32) []byte {
		if n < 1<<k.H {
			sums[n] = ruledAbove(id, n, knot(2*n), knot(2*n+1))
		} else {
			key, _ := lmots.Public(k.W, id, n-1<<k.H, seed)
			sums[n] = ruledLeaf(id, n, key)
		}
		return sums[n]
	}
	knot(1)
	return sums
}

// ruledSign is the signature of a text by a leaf of a tree whose sums are told.
func ruledSign(k ruledKind, sums map[uint32][]byte, id, seed []byte, q uint32, text []byte) []byte {
	leaf, _ := lmots.Sign(k.W, id, q, seed, text)
	out := slices.Concat(four(q), leaf, four(k.high))
	for row := range k.H {
		out = append(out, sums[(1<<k.H+q)>>row^1]...)
	}
	return out
}

// ruledTop is the sum of knot 1 that a signature leads to, whatever it is.
func ruledTop(k ruledKind, id, text, sig []byte) []byte {
	q := binary.BigEndian.Uint32(sig)
	sum, _ := lmots.Candidate(k.W, id, q, text, sig[4:k.codeAt()])
	sum = ruledLeaf(id, 1<<k.H+q, sum)
	for row := range k.H {
		beside := sig[k.codeAt()+4+32*row:][:32]
		if q>>row%2 == 1 {
			sum = ruledAbove(id, (1<<k.H+q)>>(row+1), beside, sum)
		} else {
			sum = ruledAbove(id, (1<<k.H+q)>>(row+1), sum, beside)
		}
	}
	return sum
}

// drawnSignature is bytes of a signature's form by a leaf, drawn but for its number and typecodes.
func drawnSignature(k ruledKind, q uint32, seed int64) []byte {
	sig := drawnBytes(seed, k.size())
	copy(sig, four(q))
	copy(sig[4:], four(k.wide))
	copy(sig[k.codeAt():], four(k.high))
	return sig
}

// drawnBytes is bytes that look random, the same for the same seed.
func drawnBytes(seed int64, size int) []byte {
	b := make([]byte, size)
	rand.New(rand.NewSource(seed)).Read(b)
	return b
}

// flipped is a text one of whose bits is another one.
func flipped(b []byte, bit int) []byte {
	out := slices.Clone(b)
	out[bit/8] ^= 128 >> (bit % 8)
	return out
}

// with is a text in which others stand from a place on.
func with(b []byte, at int, l ...[]byte) []byte {
	out := slices.Clone(b)
	copy(out[at:], slices.Concat(l...))
	return out
}
