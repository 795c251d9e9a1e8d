package lmots

import (
	"apostille/api"
	"apostille/bits"
	"apostille/sha"
)

// Numbers of sums that are no part's: parts count from 0 on, and are far fewer.
const (
	keyNumber  = 0x8080
	textNumber = 0x8181
	saltNumber = 0xfffd
)

// secretByte stands where a chain's step has its number, which is below it, so that no step is a draw of the seed.
const secretByte = 255

// leaf is a kind, and what all sums of one leaf begin with: the tree's id, and the leaf's number.
type leaf struct {
	kind
	ahead []byte
}

// leafOf is the leaf of a tree's id and a number.
func leafOf(w int, id []byte, q uint32) (leaf, api.Errno) {
	k, e := kindOf(w)
	if e != api.OK {
		return leaf{}, e
	}
	if len(id) != api.LmsId {
		return leaf{}, api.ErrSize
	}
	return leaf{k, bits.Join(id, bits.Be(uint64(q), 4))}, api.OK
}

// secretLeaf is the leaf, if a seed has the length of one.
func secretLeaf(w int, id []byte, q uint32, seed []byte) (leaf, api.Errno) {
	l, e := leafOf(w, id, q)
	if e != api.OK {
		return leaf{}, e
	}
	if len(seed) != api.LmsSum {
		return leaf{}, api.ErrSize
	}
	return l, api.OK
}

// sum is H of the leaf with a number, and of however many texts behind it. It has no error to tell: there is such a kind of sum.
func (l leaf) sum(number uint64, more ...[]byte) []byte {
	texts := append([][]byte{l.ahead, bits.Be(number, 2)}, more...)
	out, _ := sha.Sum(api.HaSha256, bits.Join(texts...))
	return out
}

// drawn is what a seed draws for a number.
func (l leaf) drawn(number uint64, seed []byte) []byte {
	return l.sum(number, []byte{secretByte}, seed)
}

// along is a part's value behind the steps from one digit to another, which is not below it.
func (l leaf) along(part int, y []byte, from, to uint32) []byte {
	for j := range to - from {
		y = l.sum(uint64(part), bits.Be(uint64(from+j), 1), y)
	}
	return y
}
