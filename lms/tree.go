package lms

import (
	"iter"

	"apostille/api"
	"apostille/bits"
	"apostille/sha"
)

// What stands in a knot's sum behind its number.
const (
	leafMark  = 0x8282
	aboveMark = 0x8383
)

// tree is a fit kind of tree, and the tree's id.
type tree struct {
	api.Tree
	id []byte
}

// leaves is how many leaves there are, which is the number of the first one's knot too.
func (t tree) leaves() int {
	return 1 << t.H
}

// has tells whether there is such a leaf.
func (t tree) has(q uint32) bool {
	return uint64(q) < uint64(t.leaves())
}

// knotOf is the number of a leaf's knot.
func (t tree) knotOf(q uint32) int {
	return t.leaves() + int(q)
}

// sum is H of the tree with a knot's number, a mark, and what is behind it. It has no error to tell: there is such a kind of sum.
func (t tree) sum(knot int, mark uint64, behind []byte) []byte {
	out, _ := sha.Sum(api.HaSha256, bits.Join(t.id, bits.Be(uint64(knot), numberSize), bits.Be(mark, 2), behind))
	return out
}

// leafSum is the sum of a leaf's knot, by the leaf's key.
func (t tree) leafSum(knot int, key []byte) []byte {
	return t.sum(knot, leafMark, key)
}

// aboveSum is the sum of a knot above two others, by theirs.
func (t tree) aboveSum(knot int, left, right []byte) []byte {
	return t.sum(knot, aboveMark, bits.Join(left, right))
}

// neighbours hands out the numbers of the neighbours of the knots from a leaf up, counted from 0 on. Knot 1 has none.
func (t tree) neighbours(q uint32) iter.Seq2[int, int] {
	return func(yield func(int, int) bool) {
		knot := t.knotOf(q)
		for i := range t.H {
			if !yield(i, knot^1) {
				return
			}
			knot /= 2
		}
	}
}

// top is the sum of knot 1, by a leaf's key and the sums of the neighbours from it up.
func (t tree) top(q uint32, key, beside []byte) []byte {
	sum := t.leafSum(t.knotOf(q), key)
	for i, neighbour := range t.neighbours(q) {
		other := beside[i*api.LmsSum : (i+1)*api.LmsSum]
		if neighbour%2 == 0 {
			sum = t.aboveSum(neighbour/2, other, sum)
		} else {
			sum = t.aboveSum(neighbour/2, sum, other)
		}
	}
	return sum
}
