package lms

import (
	"apostille/api"
	"apostille/bits"
	"apostille/lmots"
)

const (
	numberSize = 4 // a leaf's or a knot's number
	codeSize   = 4 // a typecode
	keySize    = 2*codeSize + api.LmsId + api.LmsSum
	leafAt     = numberSize // where a signature has the leaf's, which begins with its typecode
)

// ownCodes is where the typecodes begin that the standard leaves to whoever wants them.
const ownCodes = 0xe0000000

// heightCode is the typecode of trees so high, 0 where there are none.
func heightCode(h int) uint64 {
	switch {
	case 1 <= h && h <= 4:
		return ownCodes + uint64(h)
	case 5 <= h && h <= api.MaxTree && h%5 == 0:
		return 4 + uint64(h)/5
	}
	return 0
}

// widthCode is the typecode of leaves whose digits have so many bits, 0 where there are none.
func widthCode(w int) uint64 {
	switch w {
	case 1:
		return 1
	case 2:
		return 2
	case 4:
		return 3
	case 8:
		return 4
	}
	return 0
}

// heightOf is how high trees of a typecode are, 0 where it is none.
func heightOf(code []byte) int {
	return whose(code, heightCode, api.MaxTree)
}

// widthOf is how many bits the digits of leaves of a typecode have, 0 where it is none.
func widthOf(code []byte) int {
	return whose(code, widthCode, 8)
}

// whose is the number, up to a bound, that has a typecode. What is none is that of 0, as it stands where there is none.
func whose(code []byte, codeOf func(int) uint64, bound int) int {
	for n := range bound + 1 {
		if codeOf(n) == bits.Num(code) {
			return n
		}
	}
	return 0
}

// codes is both typecodes of a fit kind, as a key begins with them.
func codes(t api.Tree) []byte {
	return bits.Join(bits.Be(heightCode(t.H), codeSize), bits.Be(widthCode(t.W), codeSize))
}

// codeAt is where the signatures of trees of such leaves have the tree's typecode.
func codeAt(w int) int {
	return leafAt + lmots.Size(w)
}

// besideAt is where they have the sums beside the way up.
func besideAt(w int) int {
	return codeAt(w) + codeSize
}
