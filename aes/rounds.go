package aes

import (
	"iter"
	mathbits "math/bits"
	"slices"

	"apostille/bits"
)

const maxWords = 60 // the round keys of 14 rounds and of what is ahead of them

// state is a block's columns, the first byte of each the highest.
type state [4]uint32

// cipher is a key made ready: how many rounds it takes, the words of their keys, and Box of each byte.
type cipher struct {
	rounds int
	words  [maxWords]uint32
	boxes  [256]byte
}

// decipher is a cipher with the table that undoes Box: whoever goes one way alone is spared the making of it.
type decipher struct {
	*cipher
	unboxes [256]byte
}

// backward is what undoes the cipher by a key of 16, 24 or 32 bytes.
func backward(key []byte) *decipher {
	c := forward(key)
	return &decipher{cipher: c, unboxes: inverse(c.boxes)}
}

// forward is the cipher by a key of 16, 24 or 32 bytes.
func forward(key []byte) *cipher {
	size := len(key) / 4
	c := &cipher{rounds: size + 6, boxes: boxes()}
	for i := range size {
		c.words[i] = uint32(bits.Num(key[4*i : 4*i+4]))
	}
	power := byte(1)
	for i := size; i < 4*(c.rounds+1); i++ {
		ahead := c.words[i-1]
		switch {
		case i%size == 0:
			ahead = c.boxed(turned(ahead, 1)) ^ uint32(power)<<24
			power = Mul(power, 2)
		case size == 8 && i%size == 4:
			ahead = c.boxed(ahead)
		}
		c.words[i] = c.words[i-size] ^ ahead
	}
	return c
}

// boxed is Box of each byte of a word.
func (c *cipher) boxed(w uint32) uint32 {
	return gathered(&c.boxes, w, w, w, w)
}

// there is a block behind the cipher.
func (c *cipher) there(s state) state {
	s = c.keyed(s, 0)
	for round := 1; round < c.rounds; round++ {
		s = c.keyed(s.moved(&c.boxes, 1).mixed(), round)
	}
	return c.keyed(s.moved(&c.boxes, 1), c.rounds)
}

// back is the block that is behind the cipher a block: each step is undone, the last one first.
func (d *decipher) back(s state) state {
	s = d.keyed(s, d.rounds).moved(&d.unboxes, 3)
	for round := d.rounds - 1; round > 0; round-- {
		s = d.keyed(s, round).unmixed().moved(&d.unboxes, 3)
	}
	return d.keyed(s, 0)
}

// keyed is a block xored with a round's key.
func (c *cipher) keyed(s state, round int) state {
	for i := range s {
		s[i] ^= c.words[4*round+i]
	}
	return s
}

// moved is a block, byte by byte by a table, with row r moved r times so many columns to the left: three to the left are one to the right.
func (s state) moved(table *[256]byte, by int) (out state) {
	for i := range s {
		out[i] = gathered(table, s[i], s[(i+by)%4], s[(i+2*by)%4], s[(i+3*by)%4])
	}
	return out
}

// gathered is a byte of each of four words, from the first one's first to the last one's last, by a table.
func gathered(table *[256]byte, w0, w1, w2, w3 uint32) uint32 {
	return uint32(table[w0>>24])<<24 | uint32(table[byte(w1>>16)])<<16 | uint32(table[byte(w2>>8)])<<8 | uint32(table[byte(w3)])
}

// mixed is each column multiplied.
func (s state) mixed() state {
	for i, w := range s {
		next := turned(w, 1)
		s[i] = doubled(w^next) ^ next ^ turned(w, 2) ^ turned(w, 3)
	}
	return s
}

// unmixed is each column of which mixed tells this one. Four times mixed is as it was, so that thrice undoes once; twice is 5 times a byte and 4 times the one opposite.
func (s state) unmixed() state {
	for i, w := range s {
		s[i] ^= doubled(doubled(w ^ turned(w, 2)))
	}
	return s.mixed()
}

// turned is a word rotated to the left by so many bytes.
func turned(w uint32, by int) uint32 {
	return mathbits.RotateLeft32(w, 8*by)
}

// xored is two blocks, column against column.
func (s state) xored(other state) state {
	for i := range s {
		s[i] ^= other[i]
	}
	return s
}

// blocks hands out a text's blocks, one behind the other.
func blocks(b []byte) iter.Seq[state] {
	return func(yield func(state) bool) {
		for block := range slices.Chunk(b, blockSize) {
			if !yield(read(block)) {
				return
			}
		}
	}
}

// read is the block of 16 bytes.
func read(b []byte) (s state) {
	for i := range s {
		s[i] = uint32(bits.Num(b[4*i : 4*i+4]))
	}
	return s
}

// onto is a text with a block's bytes behind it.
func (s state) onto(b []byte) []byte {
	for _, w := range s {
		b = append(b, byte(w>>24), byte(w>>16), byte(w>>8), byte(w))
	}
	return b
}
