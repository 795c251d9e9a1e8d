package gcm

import (
	"slices"

	"apostille/bits"
)

const blockSize = 16

// block is 16 bytes as a polynomial: the highest bit of first is that of x^0, the lowest of last that of x^127.
type block struct {
	first, last uint64
}

// sum is a sum of blocks by h that goes on.
type sum struct {
	h, total block
}

// add goes on by a block.
func (s *sum) add(b block) {
	s.total = s.total.xored(b).times(s.h)
}

// filledUp hands a text's blocks to what takes them, the last one filled up with 0.
func filledUp(b []byte, take func(block)) {
	for part := range slices.Chunk(b, blockSize) {
		if len(part) < blockSize {
			part = bits.Join(part, make([]byte, blockSize-len(part)))
		}
		take(read(part))
	}
}

// read is the block of 16 bytes.
func read(b []byte) block {
	return block{bits.Num(b[:8]), bits.Num(b[8:])}
}

// bytes is a block's 16 bytes.
func (b block) bytes() []byte {
	return bits.Join(bits.Be(b.first, 8), bits.Be(b.last, 8))
}

// xored is two blocks, bit against bit.
func (b block) xored(other block) block {
	return block{b.first ^ other.first, b.last ^ other.last}
}

// times is the product of two blocks. It goes at one pace, without a branch or a table: either may be a secret.
func (b block) times(other block) block {
	var out block
	for range 8 * blockSize {
		has := -(b.first >> 63)
		out = out.xored(block{other.first & has, other.last & has})
		b, other = b.next(), other.timesX()
	}
	return out
}

// next is a block whose first bit is the second one of this.
func (b block) next() block {
	return block{b.first<<1 | b.last>>63, b.last << 1}
}

// timesX is a block times x: what comes to x^128 goes on as 1 + x + x^2 + x^7.
func (b block) timesX() block {
	over := -(b.last & 1)
	return block{b.first>>1 ^ over&(0xe1<<56), b.first<<63 | b.last>>1}
}
