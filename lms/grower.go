package lms

import (
	"apostille/api"
	"apostille/lmots"
)

// grower is what grows a tree whole: the tree, its leaves' seed, and its knots' sums, each in the place of the knot's number.
type grower struct {
	tree
	seed []byte
	sums [][]byte
}

// growerOf is what grows a tree, if there is one of such an id and seed that is not too high.
func growerOf(t api.Tree, id, seed []byte) (grower, api.Errno) {
	if !Fit(t) {
		return grower{}, api.ErrAlg
	}
	if len(id) != api.LmsId || len(seed) != api.LmsSum {
		return grower{}, api.ErrSize
	}
	if t.H > api.MaxGrown {
		return grower{}, api.ErrRange
	}
	own := tree{t, id}
	return grower{own, seed, make([][]byte, 2*own.leaves())}, api.OK
}

// grow reckons all sums, row by row, from the leaves up.
func (g grower) grow() {
	g.row(g.leaves(), g.leaf)
	for first := g.leaves() / 2; first > 0; first /= 2 {
		g.row(first, g.above)
	}
}

// row reckons the sums of a row's knots, of which there are as many as the first one's number says.
func (g grower) row(first int, sum func(int) []byte) {
	for knot := first; knot < 2*first; knot++ {
		g.sums[knot] = sum(knot)
	}
}

// leaf is the sum of a leaf's knot. There is no error to tell of the leaf's key: the grower's kind, id and seed are fit.
func (g grower) leaf(knot int) []byte {
	key, _ := lmots.Public(g.W, g.id, uint32(knot-g.leaves()), g.seed)
	return g.leafSum(knot, key)
}

// above is the sum of a knot whose two below are reckoned.
func (g grower) above(knot int) []byte {
	return g.aboveSum(knot, g.sums[2*knot], g.sums[2*knot+1])
}

// beside is the sums of the neighbours of the knots from a leaf up.
func (g grower) beside(q uint32) [][]byte {
	l := make([][]byte, g.H)
	for i, neighbour := range g.neighbours(q) {
		l[i] = g.sums[neighbour]
	}
	return l
}
