package lmots

import (
	"crypto/sha256"
	"encoding/binary"
	"math/big"
	"math/rand"
	"slices"
)

// The chapter's words, reckoned by the library's sums: a part's chain is laid out whole, and what is asked for is picked from it.

// ruledKind is a column of the chapter's table.
type ruledKind struct {
	w, p, s  int
	typecode byte
}

var ruledKinds = []ruledKind{{1, 265, 7, 1}, {2, 133, 6, 2}, {4, 67, 4, 3}, {8, 34, 0, 4}}

// ruledSum is the library's sum of texts, one behind the other.
func ruledSum(l ...[]byte) []byte {
	s := sha256.Sum256(slices.Concat(l...))
	return s[:]
}

// two is a number of 16 bits.
func two(n int) []byte {
	return binary.BigEndian.AppendUint16(nil, uint16(n))
}

// four is a number of 32 bits.
func four(n uint32) []byte {
	return binary.BigEndian.AppendUint32(nil, n)
}

// ruledDigits is a digest's digits, of one great number: the digest, and the check behind it.
func ruledDigits(k ruledKind, digest []byte) []uint32 {
	digit := func(n *big.Int, place int) uint32 {
		out := new(big.Int).Rsh(n, uint(place))
		return uint32(out.Mod(out, big.NewInt(1<<k.w)).Uint64())
	}
	n := new(big.Int).SetBytes(digest)
	check := int64(0)
	for place := 0; place < 256; place += k.w {
		check += 1<<k.w - 1 - int64(digit(n, place))
	}
	n.Lsh(n, 16).Add(n, big.NewInt(check<<k.s))
	var out []uint32
	for i := range k.p {
		out = append(out, digit(n, 272-k.w*(i+1)))
	}
	return out
}

// ruledChain is where a part stands behind each step, from one that is given, at a digit, to its end.
func ruledChain(k ruledKind, id []byte, q uint32, part int, y []byte, from int) map[int][]byte {
	chain := map[int][]byte{from: y}
	for j := from; j < 1<<k.w-1; j++ {
		chain[j+1] = ruledSum(id, four(q), two(part), []byte{byte(j)}, chain[j])
	}
	return chain
}

// ruledDrawn is what a seed draws for a number.
func ruledDrawn(id []byte, q uint32, number int, seed []byte) []byte {
	return ruledSum(id, four(q), two(number), []byte{255}, seed)
}

// ruledPublic is a leaf's key.
func ruledPublic(k ruledKind, id []byte, q uint32, seed []byte) []byte {
	b := slices.Concat(id, four(q), []byte{0x80, 0x80})
	for i := range k.p {
		b = append(b, ruledChain(k, id, q, i, ruledDrawn(id, q, i, seed), 0)[1<<k.w-1]...)
	}
	return ruledSum(b)
}

// ruledSign is a leaf's signature.
func ruledSign(k ruledKind, id []byte, q uint32, seed, text []byte) []byte {
	c := ruledDrawn(id, q, 0xfffd, seed)
	out := slices.Concat([]byte{0, 0, 0, k.typecode}, c)
	for i, digit := range ruledDigits(k, ruledTextDigest(id, q, c, text)) {
		out = append(out, ruledChain(k, id, q, i, ruledDrawn(id, q, i, seed), 0)[int(digit)]...)
	}
	return out
}

// ruledTextDigest is what is signed of a text.
func ruledTextDigest(id []byte, q uint32, c, text []byte) []byte {
	return ruledSum(id, four(q), []byte{0x81, 0x81}, c, text)
}

// ruledCandidate is the key by which a signature would be right.
func ruledCandidate(k ruledKind, id []byte, q uint32, text, sig []byte) []byte {
	b := slices.Concat(id, four(q), []byte{0x80, 0x80})
	for i, digit := range ruledDigits(k, ruledTextDigest(id, q, sig[4:36], text)) {
		part := sig[36+32*i : 68+32*i]
		b = append(b, ruledChain(k, id, q, i, part, int(digit))[1<<k.w-1]...)
	}
	return ruledSum(b)
}

// drawnBytes is bytes that look random, the same for the same seed.
func drawnBytes(seed int64, size int) []byte {
	b := make([]byte, size)
	rand.New(rand.NewSource(seed)).Read(b)
	return b
}
