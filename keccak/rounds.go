package keccak

import "math/bits"

// constants is what the first word is xored with, round by round.
var constants = [24]uint64{
	0x0000000000000001, 0x0000000000008082, 0x800000000000808a, 0x8000000080008000,
	0x000000000000808b, 0x0000000080000001, 0x8000000080008081, 0x8000000000008009,
	0x000000000000008a, 0x0000000000000088, 0x0000000080008009, 0x000000008000000a,
	0x000000008000808b, 0x800000000000008b, 0x8000000000008089, 0x8000000000008003,
	0x8000000000008002, 0x8000000000000080, 0x000000000000800a, 0x800000008000000a,
	0x8000000080008081, 0x8000000000008080, 0x0000000080000001, 0x8000000080008008,
}

// Permute is 25 words behind all rounds.
func Permute(a [25]uint64) [25]uint64 {
	for _, constant := range constants {
		a = round(a)
		a[0] ^= constant
	}
	return a
}

// round is words behind one round, all but its constant. It is written out word by word: signatures take rounds by the million, and loops would take them three times as long.
func round(a [25]uint64) (out [25]uint64) {
	c0, c1, c2, c3, c4 := beside(
		a[0]^a[5]^a[10]^a[15]^a[20],
		a[1]^a[6]^a[11]^a[16]^a[21],
		a[2]^a[7]^a[12]^a[17]^a[22],
		a[3]^a[8]^a[13]^a[18]^a[23],
		a[4]^a[9]^a[14]^a[19]^a[24],
	)
	out[0], out[1], out[2], out[3], out[4] = mixed(
		a[0]^c0, turned(a[6]^c1, 44), turned(a[12]^c2, 43), turned(a[18]^c3, 21), turned(a[24]^c4, 14),
	)
	out[5], out[6], out[7], out[8], out[9] = mixed(
		turned(a[3]^c3, 28), turned(a[9]^c4, 20), turned(a[10]^c0, 3), turned(a[16]^c1, 45), turned(a[22]^c2, 61),
	)
	out[10], out[11], out[12], out[13], out[14] = mixed(
		turned(a[1]^c1, 1), turned(a[7]^c2, 6), turned(a[13]^c3, 25), turned(a[19]^c4, 8), turned(a[20]^c0, 18),
	)
	out[15], out[16], out[17], out[18], out[19] = mixed(
		turned(a[4]^c4, 27), turned(a[5]^c0, 36), turned(a[11]^c1, 10), turned(a[17]^c2, 15), turned(a[23]^c3, 56),
	)
	out[20], out[21], out[22], out[23], out[24] = mixed(
		turned(a[2]^c2, 62), turned(a[8]^c3, 55), turned(a[14]^c4, 39), turned(a[15]^c0, 41), turned(a[21]^c1, 2),
	)
	return out
}

// beside is what each column's words are xored with, by the parities of all columns.
func beside(p0, p1, p2, p3, p4 uint64) (uint64, uint64, uint64, uint64, uint64) {
	return p4 ^ turned(p1, 1), p0 ^ turned(p2, 1), p1 ^ turned(p3, 1), p2 ^ turned(p4, 1), p3 ^ turned(p0, 1)
}

// mixed is a row's words, each xored with what the next two are together.
func mixed(w0, w1, w2, w3, w4 uint64) (uint64, uint64, uint64, uint64, uint64) {
	return w0 ^ ^w1&w2, w1 ^ ^w2&w3, w2 ^ ^w3&w4, w3 ^ ^w4&w0, w4 ^ ^w0&w1
}

// turned is a word rotated left.
func turned(w uint64, by int) uint64 {
	return bits.RotateLeft64(w, by)
}
