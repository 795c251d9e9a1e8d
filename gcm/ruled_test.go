package gcm

import (
	library "crypto/aes"
	modes "crypto/cipher"
	"encoding/binary"
	"math/big"
	"math/rand"
	"slices"
	"testing"
)

// The chapter's words, reckoned plainly: blocks as polynomials, each a great number whose bit i is that of x^i, and the whole by the library.

var keySizes = []int{16, 24, 32}

// polynomial is a block as a great number.
func polynomial(b []byte) *big.Int {
	p := new(big.Int)
	for i := range 128 {
		p.SetBit(p, i, uint(b[i/8]>>(7-i%8)&1))
	}
	return p
}

// ruledMul is the product of two blocks: that of the polynomials, and what is left of it by x^128 + x^7 + x^2 + x + 1.
func ruledMul(a, b []byte) []byte {
	p, q, product := polynomial(a), polynomial(b), new(big.Int)
	for i := range 128 {
		if p.Bit(i) == 1 {
			product.Xor(product, new(big.Int).Lsh(q, uint(i)))
		}
	}
	modulus := new(big.Int)
	for _, i := range []int{128, 7, 2, 1, 0} {
		modulus.SetBit(modulus, i, 1)
	}
	for i := 254; i >= 128; i-- {
		if product.Bit(i) == 1 {
			product.Xor(product, new(big.Int).Lsh(modulus, uint(i-128)))
		}
	}
	out := make([]byte, 16)
	for i := range 128 {
		out[i/8] |= byte(product.Bit(i)) << (7 - i%8)
	}
	return out
}

// ruledSum is the sum of whole blocks by h, each times as many h as there are blocks from it on: the brackets are undone.
func ruledSum(h, b []byte) []byte {
	total, power := make([]byte, 16), slices.Clone(h)
	for end := len(b); end > 0; end -= 16 {
		total = xored(total, ruledMul(b[end-16:end], power))
		power = ruledMul(power, h)
	}
	return total
}

// ruledSeal is a text sealed, by the library's cipher, block by block.
func ruledSeal(t *testing.T, key, nonce, beside, plain []byte) []byte {
	t.Helper()
	c, err := library.NewCipher(key)
	if err != nil {
		t.Fatal(err)
	}
	block := func(b []byte) []byte {
		out := make([]byte, 16)
		c.Encrypt(out, b)
		return out
	}
	var text []byte
	for number, at := 2, 0; at < len(plain); number, at = number+1, at+16 {
		mask := block(binary.BigEndian.AppendUint32(slices.Clone(nonce), uint32(number)))
		part := plain[at:min(at+16, len(plain))]
		text = append(text, xored(part, mask[:len(part)])...)
	}
	return append(text, ruledTag(block, nonce, beside, text)...)
}

// ruledTag is the tag of what is sealed, by the blocks of a key.
func ruledTag(block func([]byte) []byte, nonce, beside, text []byte) []byte {
	row := slices.Concat(beside, make([]byte, -len(beside)&15), text, make([]byte, -len(text)&15))
	row = binary.BigEndian.AppendUint64(row, uint64(len(beside))*8)
	row = binary.BigEndian.AppendUint64(row, uint64(len(text))*8)
	return xored(block(slices.Concat(nonce, []byte{0, 0, 0, 1})), ruledSum(block(make([]byte, 16)), row))
}

// xored is two texts of one length, byte against byte.
func xored(a, b []byte) []byte {
	out := make([]byte, len(a))
	for i := range a {
		out[i] = a[i] ^ b[i]
	}
	return out
}

// librarySeal is a text sealed by the library.
func librarySeal(t *testing.T, key, nonce, beside, plain []byte) []byte {
	t.Helper()
	c, err := library.NewCipher(key)
	if err != nil {
		t.Fatal(err)
	}
	g, err := modes.NewGCM(c)
	if err != nil {
		t.Fatal(err)
	}
	return g.Seal(nil, nonce, plain, beside)
}

// drawn is bytes that look random, the same for the same seed.
func drawn(seed int64, size int) []byte {
	b := make([]byte, size)
	rand.New(rand.NewSource(seed)).Read(b)
	return b
}
