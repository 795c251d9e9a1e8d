// Package bits is layer 1: see shared/doc/01-bits.md.
package bits

import "slices"

const (
	maxSize  = 65536 // the longest number that Be and Le write
	maxWidth = 24    // a number of this width beside 7 bits that are left over fits 32 bits
)

// Be is a number as so many bytes, the highest first.
func Be(n uint64, size int) []byte {
	out := Le(n, size)
	slices.Reverse(out)
	return out
}

// Num is the number that bytes are, the highest first.
func Num(b []byte) uint64 {
	var n uint64
	for _, x := range b {
		n = n<<8 | uint64(x)
	}
	return n
}

// Le is a number as so many bytes, the lowest first.
func Le(n uint64, size int) []byte {
	if size <= 0 || size > maxSize {
		return nil
	}
	out := make([]byte, size)
	for i := range min(size, 8) {
		out[i] = byte(n >> (8 * i))
	}
	return out
}

// NumLe is the number that bytes are, the lowest first.
func NumLe(b []byte) uint64 {
	var n uint64
	for i := range min(len(b), 8) {
		n |= uint64(b[i]) << (8 * i)
	}
	return n
}

// Xor is two texts, byte against byte.
func Xor(a, b []byte) []byte {
	size := min(len(a), len(b))
	out := room[byte](size)
	for i := range size {
		out = append(out, a[i]^b[i])
	}
	return out
}

// Same tells whether two texts are the same, at the same pace whatever they are.
func Same(a, b []byte) bool {
	if len(a) != len(b) {
		return false // how long a text is, is no secret
	}
	var differ byte
	for i := range len(a) {
		differ |= a[i] ^ b[i] // no early end: it would tell where they differ
	}
	return differ == 0
}

// Join is texts, one behind the other.
func Join(l ...[]byte) []byte {
	size := 0
	for _, b := range l {
		size += len(b)
	}
	out := room[byte](size)
	for _, b := range l {
		out = append(out, b...)
	}
	return out
}

// Digits is the first digits of a text's bits, the highest first, each of so many bits.
func Digits(b []byte, width, count int) []uint32 {
	if !holds(b, width, count) {
		return nil
	}
	out := room[uint32](count)
	var left uint32 // bits that are read and not told yet are the lowest of it
	have, at := 0, 0
	for range count {
		for have < width {
			left = left<<8 | uint32(b[at])
			at++
			have += 8
		}
		have -= width
		out = append(out, lowest(left>>have, width))
	}
	return out
}

// Pack is numbers as bits, the lowest first, each of so many bits.
func Pack(l []uint32, width int) []byte {
	if !isWidth(width) {
		return nil
	}
	out := room[byte](packedSize(len(l), width))
	var left uint32 // bits that fill no byte yet
	have := 0
	for _, n := range l {
		left |= lowest(n, width) << have
		have += width
		for have >= 8 {
			out = append(out, byte(left))
			left >>= 8
			have -= 8
		}
	}
	if have > 0 {
		out = append(out, byte(left))
	}
	return out
}

// Unpack is the first numbers of a text's bits, the lowest first.
func Unpack(b []byte, width, count int) []uint32 {
	if !holds(b, width, count) {
		return nil
	}
	out := room[uint32](count)
	var left uint32 // bits that are read and not told yet
	have, at := 0, 0
	for range count {
		for have < width {
			left |= uint32(b[at]) << have
			at++
			have += 8
		}
		out = append(out, lowest(left, width))
		left >>= width
		have -= width
	}
	return out
}

// room is an empty list for so many items: none at all for 0 of them, as an empty answer is none.
func room[T any](count int) []T {
	if count == 0 {
		return nil
	}
	return make([]T, 0, count)
}

// isWidth tells whether a group may have so many bits.
func isWidth(width int) bool {
	return 1 <= width && width <= maxWidth
}

// holds tells whether a text has so many groups of so many bits. It divides, as a product could wrap round.
func holds(b []byte, width, count int) bool {
	if !isWidth(width) || count < 0 {
		return false
	}
	return uint64(count) <= uint64(len(b))*8/uint64(width)
}

// lowest is the lowest bits of a number.
func lowest(n uint32, width int) uint32 {
	return n & (1<<width - 1)
}

// packedSize is how many bytes so many groups fill: eight groups are width bytes.
func packedSize(count, width int) int {
	return count/8*width + (count%8*width+7)/8
}
