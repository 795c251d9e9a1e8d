package wrap

import (
	library "crypto/aes"
	modes "crypto/cipher"
	"encoding/binary"
	"math/rand"
	"slices"
	"testing"
)

// The chapter's words, reckoned by the library's cipher, the way the standard shows it first: the words are a row that moves on by one at each step, so that a step is about its first word, and what comes out is put at its end.

var kekSizes = []int{16, 24, 32}

// libraryCipher is the library's cipher by a key.
func libraryCipher(t *testing.T, kek []byte) modes.Block {
	t.Helper()
	c, err := library.NewCipher(kek)
	if err != nil {
		t.Fatal(err)
	}
	return c
}

// ruledWrap is a key wrapped, with A beginning as it is said.
func ruledWrap(t *testing.T, kek, begin, key []byte) []byte {
	t.Helper()
	c := libraryCipher(t, kek)
	block := make([]byte, 16)
	a, row := slices.Clone(begin), slices.Clone(key)
	for step := range 6 * len(key) / 8 {
		c.Encrypt(block, slices.Concat(a, row[:8]))
		a = ruledNumbered(block[:8], step+1)
		row = slices.Concat(row[8:], block[8:])
	}
	return slices.Concat(a, row)
}

// ruledUnwrap is what A is in the end, and the key.
func ruledUnwrap(t *testing.T, kek, b []byte) (begin, key []byte) {
	t.Helper()
	c := libraryCipher(t, kek)
	block := make([]byte, 16)
	a, row := slices.Clone(b[:8]), slices.Clone(b[8:])
	for step := 6 * len(row) / 8; step > 0; step-- {
		end := len(row) - 8
		c.Decrypt(block, slices.Concat(ruledNumbered(a, step), row[end:]))
		a = slices.Clone(block[:8])
		row = slices.Concat(block[8:], row[:end])
	}
	return a, row
}

// ruledNumbered is A xored with a number.
func ruledNumbered(a []byte, n int) []byte {
	return binary.BigEndian.AppendUint64(nil, binary.BigEndian.Uint64(a)^uint64(n))
}

// drawn is bytes that look random, the same for the same seed.
func drawn(seed int64, size int) []byte {
	b := make([]byte, size)
	rand.New(rand.NewSource(seed)).Read(b)
	return b
}
