package wots

import (
	"crypto/sha256"
	"crypto/sha3"
	"crypto/sha512"
	"encoding/binary"
	"math/rand"
	"slices"

	"apostille/api"
)

// The chapter's words, reckoned by the library's sums: a place is written down number by number, and each sum is told anew.

// ruledPlace is a place's numbers; a tree has a high and a low one.
type ruledPlace struct {
	layer              uint32
	treeHigh           uint32
	treeLow            uint64
	kind               uint32
	first, second, end uint32
}

// adrs is the place's bytes.
func (p ruledPlace) adrs() api.Adrs {
	var b []byte
	for _, n := range []uint32{p.layer, p.treeHigh, uint32(p.treeLow >> 32), uint32(p.treeLow), p.kind, p.first, p.second, p.end} {
		b = binary.BigEndian.AppendUint32(b, n)
	}
	return api.Adrs(b)
}

// short is the place's bytes as the sums of SHA-2 take them.
func (p ruledPlace) short() []byte {
	b := []byte{byte(p.layer)}
	b = binary.BigEndian.AppendUint64(b, p.treeLow)
	b = append(b, byte(p.kind))
	for _, n := range []uint32{p.first, p.second, p.end} {
		b = binary.BigEndian.AppendUint32(b, n)
	}
	return b
}

// ruledSizes is how many bytes sums may have.
var ruledSizes = []int{16, 24, 32}

// ruledKinds is a kind of each size and of each family of sums.
func ruledKinds() []api.Slh {
	var l []api.Slh
	for _, n := range ruledSizes {
		for _, shake := range []bool{false, true} {
			l = append(l, api.Slh{N: n, H: 66, D: 22, A: 6, K: 33, Shake: shake})
		}
	}
	return l
}

// ruledSum is the library's sum of a text at a place.
func ruledSum(x api.Slh, pub []byte, p ruledPlace, text []byte) []byte {
	a := p.adrs()
	switch {
	case x.Shake:
		return sha3.SumSHAKE256(slices.Concat(pub, a[:], text), x.N)
	case x.N > 16 && len(text) > x.N:
		s := sha512.Sum512(slices.Concat(append(slices.Clone(pub), make([]byte, 128-x.N)...), p.short(), text))
		return s[:x.N]
	}
	s := sha256.Sum256(slices.Concat(append(slices.Clone(pub), make([]byte, 64-x.N)...), p.short(), text))
	return s[:x.N]
}

// ruledDigits is a text's digits and their check's.
func ruledDigits(text []byte) []uint32 {
	var l []uint32
	check := uint32(0)
	for _, b := range text {
		l = append(l, uint32(b/16), uint32(b%16))
		check += 15 - uint32(b/16) + 15 - uint32(b%16)
	}
	return append(l, check/256, check/16%16, check%16)
}

// ruledDraw is what a secret draws for a chain.
func ruledDraw(x api.Slh, secret, pub []byte, p ruledPlace, chain int) []byte {
	at := ruledPlace{p.layer, p.treeHigh, p.treeLow, 5, p.first, uint32(chain), 0}
	return ruledSum(x, pub, at, secret)
}

// ruledAlong is a chain's value, from a step on and up to another one.
func ruledAlong(x api.Slh, pub []byte, p ruledPlace, chain int, y []byte, from, to uint32) []byte {
	p.second = uint32(chain)
	for p.end = from; p.end < to; p.end++ {
		y = ruledSum(x, pub, p, y)
	}
	return y
}

// ruledKey is the key of a place whose chains end so.
func ruledKey(x api.Slh, pub []byte, p ruledPlace, ends []byte) []byte {
	return ruledSum(x, pub, ruledPlace{p.layer, p.treeHigh, p.treeLow, 1, p.first, 0, 0}, ends)
}

// ruledPublic is the key of a place.
func ruledPublic(x api.Slh, secret, pub []byte, p ruledPlace) []byte {
	var ends []byte
	for i := range 2*x.N + 3 {
		ends = append(ends, ruledAlong(x, pub, p, i, ruledDraw(x, secret, pub, p, i), 0, 15)...)
	}
	return ruledKey(x, pub, p, ends)
}

// ruledSign is the signature of a text.
func ruledSign(x api.Slh, text, secret, pub []byte, p ruledPlace) []byte {
	var out []byte
	for i, digit := range ruledDigits(text) {
		out = append(out, ruledAlong(x, pub, p, i, ruledDraw(x, secret, pub, p, i), 0, digit)...)
	}
	return out
}

// ruledCandidate is the key to which a signature leads.
func ruledCandidate(x api.Slh, sig, text, pub []byte, p ruledPlace) []byte {
	var ends []byte
	for i, digit := range ruledDigits(text) {
		ends = append(ends, ruledAlong(x, pub, p, i, sig[i*x.N:][:x.N], digit, 15)...)
	}
	return ruledKey(x, pub, p, ends)
}

// drawnPlace is a place of a type with any numbers.
func drawnPlace(r *rand.Rand, kind uint32) ruledPlace {
	return ruledPlace{r.Uint32(), r.Uint32(), r.Uint64(), kind, r.Uint32(), r.Uint32(), r.Uint32()}
}

// drawnBytes is bytes that look random, the same for the same seed.
func drawnBytes(seed int64, size int) []byte {
	b := make([]byte, size)
	rand.New(rand.NewSource(seed)).Read(b)
	return b
}

// flipped is a text one of whose bits is another one.
func flipped(b []byte, bit int) []byte {
	out := slices.Clone(b)
	out[bit/8] ^= 128 >> (bit % 8)
	return out
}
