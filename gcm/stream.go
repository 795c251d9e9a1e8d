package gcm

import (
	"iter"
	"slices"

	"apostille/aes"
	"apostille/bits"
)

const (
	tagNumber   = 1             // the number whose block hides the tag
	firstNumber = tagNumber + 1 // that of the text's first block
)

// masked is a text xored with the stream: the same twice is as it was.
func masked(key, nonce, text []byte) []byte {
	out := slices.Grow([]byte(nil), len(text))
	for mask := range stream(key, nonce) {
		out = append(out, bits.Xor(text[len(out):], mask)...)
		if len(out) == len(text) {
			break
		}
	}
	return out
}

// stream hands out the blocks that hide a text. It does not end: who takes them knows how many are wanted.
func stream(key, nonce []byte) iter.Seq[[]byte] {
	return func(yield func([]byte) bool) {
		for number := uint32(firstNumber); ; number++ {
			if !yield(numbered(key, nonce, number)) {
				return
			}
		}
	}
}

// numbered is a number's block.
func numbered(key, nonce []byte, number uint32) []byte {
	return behind(key, bits.Join(nonce, bits.Be(uint64(number), blockSize-nonceSize)))
}

// behind is a block behind the cipher. It has no error to tell: the lengths of key and block are right where it is called.
func behind(key, b []byte) []byte {
	out, _ := aes.Block(key, b)
	return out
}
