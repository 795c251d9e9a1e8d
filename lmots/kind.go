package lmots

import (
	"apostille/api"
	"apostille/bits"
)

const (
	codeSize = 4                     // a typecode
	headSize = codeSize + api.LmsSum // what stands ahead of a signature's parts
)

// kind is how a leaf signs: how many bits a digit has, how many digits there are, by how much their check is shifted, and the typecode.
type kind struct {
	width, count, shift int
	typecode            uint64
}

// kindOf is the kind of digits of so many bits.
func kindOf(w int) (kind, api.Errno) {
	switch w {
	case 1:
		return kind{width: w, count: 265, shift: 7, typecode: 1}, api.OK
	case 2:
		return kind{width: w, count: 133, shift: 6, typecode: 2}, api.OK
	case 4:
		return kind{width: w, count: 67, shift: 4, typecode: 3}, api.OK
	case 8:
		return kind{width: w, count: 34, shift: 0, typecode: 4}, api.OK
	}
	return kind{}, api.ErrAlg
}

// code is the typecode's bytes.
func (k kind) code() []byte {
	return bits.Be(k.typecode, codeSize)
}

// size is how many bytes a signature has.
func (k kind) size() int {
	return headSize + k.count*api.LmsSum
}

// top is the greatest digit, which is how many steps a chain has.
func (k kind) top() uint32 {
	return 1<<k.width - 1
}

// digits is a digest's digits and those of their check.
func (k kind) digits(digest []byte) []uint32 {
	var check uint64
	for _, digit := range bits.Digits(digest, k.width, 8*len(digest)/k.width) {
		check += uint64(k.top() - digit)
	}
	return bits.Digits(bits.Join(digest, bits.Be(check<<k.shift, 2)), k.width, k.count)
}
