package xmss

import (
	"crypto/sha256"
	"crypto/sha3"
	"crypto/sha512"
	"encoding/binary"
	"math/rand"
	"slices"

	"apostille/api"
)

// The words of this chapter and of the leaves', reckoned by the library's sums: a place is written down number by number, and trees are grown row by row.

// ruledPlace is a place's numbers; a tree has a high and a low one.
type ruledPlace struct {
	layer              uint32
	treeHigh           uint32
	treeLow            uint64
	kind               uint32
	first, second, end uint32
}

// adrs is the place's bytes.
func (p ruledPlace) adrs() api.Adrs {
	var b []byte
	for _, n := range []uint32{p.layer, p.treeHigh, uint32(p.treeLow >> 32), uint32(p.treeLow), p.kind, p.first, p.second, p.end} {
		b = binary.BigEndian.AppendUint32(b, n)
	}
	return api.Adrs(b)
}

// short is the place's bytes as the sums of SHA-2 take them.
func (p ruledPlace) short() []byte {
	a := p.adrs()
	return slices.Concat(a[3:4], a[8:16], a[19:20], a[20:])
}

// of is the place of a type in the same tree.
func (p ruledPlace) of(kind, first, second, end uint32) ruledPlace {
	return ruledPlace{p.layer, p.treeHigh, p.treeLow, kind, first, second, end}
}

// ruledKinds is a kind of each size and of each family of sums, with trees of a height, in so many layers.
func ruledKinds(height, layers int) []api.Slh {
	var l []api.Slh
	for _, n := range []int{16, 24, 32} {
		for _, shake := range []bool{false, true} {
			l = append(l, api.Slh{N: n, H: height * layers, D: layers, A: 6, K: 33, Shake: shake})
		}
	}
	return l
}

// ruledSum is the library's sum of texts, one behind the other, at a place.
func ruledSum(x api.Slh, pub []byte, p ruledPlace, texts ...[]byte) []byte {
	a, text := p.adrs(), slices.Concat(texts...)
	switch {
	case x.Shake:
		return sha3.SumSHAKE256(slices.Concat(pub, a[:], text), x.N)
	case x.N > 16 && len(text) > x.N:
		s := sha512.Sum512(slices.Concat(pub, make([]byte, 128-x.N), p.short(), text))
		return s[:x.N]
	}
	s := sha256.Sum256(slices.Concat(pub, make([]byte, 64-x.N), p.short(), text))
	return s[:x.N]
}

// ruledDigits is a text's digits and their check's.
func ruledDigits(text []byte) []uint32 {
	var l []uint32
	check := uint32(0)
	for _, b := range text {
		l = append(l, uint32(b/16), uint32(b%16))
		check += 15 - uint32(b/16) + 15 - uint32(b%16)
	}
	return append(l, check/256, check/16%16, check%16)
}

// ruledChains is the values of a leaf's chains behind so many steps each.
func ruledChains(x api.Slh, secret, pub []byte, p ruledPlace, leaf uint32, steps []uint32) [][]byte {
	var l [][]byte
	for i, most := range steps {
		y := ruledSum(x, pub, p.of(5, leaf, uint32(i), 0), secret)
		for j := range most {
			y = ruledSum(x, pub, p.of(0, leaf, uint32(i), j), y)
		}
		l = append(l, y)
	}
	return l
}

// ruledLeaf is a leaf's key.
func ruledLeaf(x api.Slh, secret, pub []byte, p ruledPlace, leaf uint32) []byte {
	ends := ruledChains(x, secret, pub, p, leaf, slices.Repeat([]uint32{15}, 2*x.N+3))
	return ruledSum(x, pub, p.of(1, leaf, 0, 0), ends...)
}

// ruledLeafCandidate is the key to which a leaf's signature leads.
func ruledLeafCandidate(x api.Slh, sig, text, pub []byte, p ruledPlace, leaf uint32) []byte {
	var ends []byte
	for i, digit := range ruledDigits(text) {
		y := sig[i*x.N:][:x.N]
		for j := digit; j < 15; j++ {
			y = ruledSum(x, pub, p.of(0, leaf, uint32(i), j), y)
		}
		ends = append(ends, y...)
	}
	return ruledSum(x, pub, p.of(1, leaf, 0, 0), ends)
}

// ruledTree is a tree's knots, row by row, from the leaves up.
func ruledTree(x api.Slh, secret, pub []byte, p ruledPlace) [][][]byte {
	rows := [][][]byte{nil}
	for i := range uint32(1) << (x.H / x.D) {
		rows[0] = append(rows[0], ruledLeaf(x, secret, pub, p, i))
	}
	for len(rows[len(rows)-1]) > 1 {
		var row [][]byte
		for pair := range slices.Chunk(rows[len(rows)-1], 2) {
			row = append(row, ruledSum(x, pub, p.of(2, 0, uint32(len(rows)), uint32(len(row))), pair...))
		}
		rows = append(rows, row)
	}
	return rows
}

// ruledSign is a tree's signature of a text, of the tree's knots.
func ruledSign(x api.Slh, rows [][][]byte, text, secret, pub []byte, p ruledPlace, leaf uint32) []byte {
	out := slices.Concat(ruledChains(x, secret, pub, p, leaf, ruledDigits(text))...)
	for _, row := range rows[:len(rows)-1] {
		if leaf%2 == 0 {
			out = append(out, row[leaf+1]...)
		} else {
			out = append(out, row[leaf-1]...)
		}
		leaf /= 2
	}
	return out
}

// ruledCandidate is the top to which a tree's signature leads.
func ruledCandidate(x api.Slh, sig, text, pub []byte, p ruledPlace, leaf uint32) []byte {
	y := ruledLeafCandidate(x, sig, text, pub, p, leaf)
	height := uint32(0)
	for other := range slices.Chunk(sig[x.N*(2*x.N+3):], x.N) {
		pair := [][]byte{y, other}
		if leaf%2 == 1 {
			pair = [][]byte{other, y}
		}
		leaf /= 2
		height++
		y = ruledSum(x, pub, p.of(2, 0, height, leaf), pair...)
	}
	return y
}

// ruledHyper is the signature of a text by trees in trees, and the last one's top.
func ruledHyper(x api.Slh, text, secret, pub []byte, tree, leaf uint64) ([]byte, []byte) {
	var out []byte
	for layer := range uint32(x.D) {
		p := ruledPlace{layer: layer, treeLow: tree}
		rows := ruledTree(x, secret, pub, p)
		out = append(out, ruledSign(x, rows, text, secret, pub, p, uint32(leaf))...)
		text = rows[len(rows)-1][0]
		leaf = tree % uint64(len(rows[0]))
		tree /= uint64(len(rows[0]))
	}
	return out, text
}

// ruledTop is the last top to which a signature by trees in trees leads.
func ruledTop(x api.Slh, text, sig, pub []byte, tree, leaf uint64) []byte {
	leaves := uint64(1) << (x.H / x.D)
	layer := uint32(0)
	for own := range slices.Chunk(sig, len(sig)/x.D) {
		text = ruledCandidate(x, own, text, pub, ruledPlace{layer: layer, treeLow: tree}, uint32(leaf))
		tree, leaf = tree/leaves, tree%leaves
		layer++
	}
	return text
}

// drawnPlace is a place with any numbers.
func drawnPlace(r *rand.Rand) ruledPlace {
	return ruledPlace{r.Uint32(), r.Uint32(), r.Uint64(), r.Uint32(), r.Uint32(), r.Uint32(), r.Uint32()}
}

// drawnBytes is bytes that look random, the same for the same seed.
func drawnBytes(seed int64, size int) []byte {
	b := make([]byte, size)
	rand.New(rand.NewSource(seed)).Read(b)
	return b
}

// drawnKey is a secret, what of a key all know, and a text, of a kind's size.
func drawnKey(x api.Slh, seed int64) (secret, pub, text []byte) {
	b := drawnBytes(seed, 3*x.N)
	return b[:x.N:x.N], b[x.N : 2*x.N : 2*x.N], b[2*x.N:]
}

// flipped is a text one of whose bits is another one.
func flipped(b []byte, bit int) []byte {
	out := slices.Clone(b)
	out[bit/8] ^= 128 >> (bit % 8)
	return out
}
