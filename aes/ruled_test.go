package aes

import (
	"bytes"
	"math/bits"
	"math/rand"
	"slices"
)

// What stands here is reckoned as the chapter says it, byte by byte and without a table: the other tests hold the program against it, and it is held against the library.

// keySizes is how many bytes a key may have.
var keySizes = []int{16, 24, 32}

// ruledMul is the product of two bytes: that of the polynomials, and what is left of it.
func ruledMul(a, b byte) byte {
	product := 0
	for i := range 8 {
		if b>>i&1 == 1 {
			product ^= int(a) << i
		}
	}
	for i := 14; i >= 8; i-- {
		if product>>i&1 == 1 {
			product ^= 0b1_0001_1011 << (i - 8)
		}
	}
	return byte(product)
}

// ruledBox is Box of a byte, its inverse looked for.
func ruledBox(c byte) byte {
	var inverse byte
	for i := range 256 {
		if ruledMul(c, byte(i)) == 1 {
			inverse = byte(i)
		}
	}
	out := inverse ^ 0x63
	for by := 1; by <= 4; by++ {
		out ^= bits.RotateLeft8(inverse, by)
	}
	return out
}

// ruledBoxed is bytes, each by a table.
func ruledBoxed(b []byte, table [256]byte) []byte {
	out := make([]byte, len(b))
	for i, c := range b {
		out[i] = table[c]
	}
	return out
}

// ruledTables is ruledBox of each byte, and the way back.
func ruledTables() (there, back [256]byte) {
	for i := range there {
		there[i] = ruledBox(byte(i))
		back[there[i]] = byte(i)
	}
	return there, back
}

var ruledThere, ruledBack = ruledTables()

// ruledKeys is the round keys of a key, of 16 bytes each.
func ruledKeys(key []byte) [][]byte {
	k := len(key) / 4
	words := slices.Collect(slices.Chunk(slices.Clone(key), 4))
	constant := byte(1)
	for i := k; i < 4*(k+7); i++ {
		ahead := slices.Clone(words[i-1])
		if i%k == 0 {
			ahead = ruledBoxed(slices.Concat(ahead[1:], ahead[:1]), ruledThere)
			ahead[0] ^= constant
			constant = ruledMul(constant, 2)
		} else if k == 8 && i%8 == 4 {
			ahead = ruledBoxed(ahead, ruledThere)
		}
		words = append(words, xored(words[i-k], ahead))
	}
	return slices.Collect(slices.Chunk(slices.Concat(words...), 16))
}

// ruledMoved is a block with row r moved r times so many columns to the left.
func ruledMoved(b []byte, by int) []byte {
	out := make([]byte, 16)
	for column := range 4 {
		for row := range 4 {
			out[4*column+row] = b[4*((column+by*row)%4)+row]
		}
	}
	return out
}

// ruledMixed is a block's columns multiplied: each byte is so many times it, the next one, and so on.
func ruledMixed(b []byte, times [4]byte) []byte {
	out := make([]byte, 16)
	for i := range out {
		for j, n := range times {
			out[i] ^= ruledMul(n, b[i/4*4+(i+j)%4])
		}
	}
	return out
}

// ruledBlock is a block behind the cipher.
func ruledBlock(key, b []byte) []byte {
	keys := ruledKeys(key)
	last := len(keys) - 1
	b = xored(b, keys[0])
	for round := 1; round <= last; round++ {
		b = ruledMoved(ruledBoxed(b, ruledThere), 1)
		if round < last {
			b = ruledMixed(b, [4]byte{2, 3, 1, 1})
		}
		b = xored(b, keys[round])
	}
	return b
}

// ruledUnblock is the block that is behind the cipher a block.
func ruledUnblock(key, b []byte) []byte {
	keys := ruledKeys(key)
	last := len(keys) - 1
	for round := last; round > 0; round-- {
		b = xored(b, keys[round])
		if round < last {
			b = ruledMixed(b, [4]byte{14, 11, 13, 9})
		}
		b = ruledBoxed(ruledMoved(b, 3), ruledBack)
	}
	return xored(b, keys[0])
}

// ruledFilled is a text, filled up to whole blocks.
func ruledFilled(b []byte) []byte {
	n := 16 - len(b)%16
	return slices.Concat(b, bytes.Repeat([]byte{byte(n)}, n))
}

// xored is two texts of one length, byte against byte.
func xored(a, b []byte) []byte {
	out := make([]byte, len(a))
	for i := range a {
		out[i] = a[i] ^ b[i]
	}
	return out
}

// drawn is bytes that look random, the same for the same seed.
func drawn(seed int64, size int) []byte {
	b := make([]byte, size)
	rand.New(rand.NewSource(seed)).Read(b)
	return b
}
