package xmss

import (
	"iter"

	"apostille/api"
	"apostille/wots"
)

const checkDigits = 3 // of a leaf's check, behind its text's digits

// pubFits tells whether a kind can be, and what of a key all know has its length.
func pubFits(x api.Slh, pub []byte) bool {
	return wots.Fit(x) && len(pub) == x.N
}

// secretFits tells whether a secret has its length too.
func secretFits(x api.Slh, secret, pub []byte) bool {
	return pubFits(x, pub) && len(secret) == x.N
}

// treeHeight is how high each tree of a fit kind is.
func treeHeight(x api.Slh) int {
	return x.H / x.D
}

// leafSize is how many bytes a leaf's signature has: a sum for each digit.
func leafSize(x api.Slh) int {
	return x.N * (8*x.N/api.SlhDigit + checkDigits)
}

// treeSize is how many bytes a tree's signature has.
func treeSize(x api.Slh) int {
	return leafSize(x) + x.N*treeHeight(x)
}

// hasKnot tells whether a tree has an i-th knot of a height.
func hasKnot(x api.Slh, height int, i uint64) bool {
	h := treeHeight(x)
	return 0 <= height && height <= h && i>>(h-height) == 0
}

// hasLeaf tells whether a tree has such a leaf.
func hasLeaf(x api.Slh, leaf uint64) bool {
	return hasKnot(x, 0, leaf)
}

// hasTree tells whether layer 0 has such a tree. There may be more than numbers of 64 bits tell, so the number goes down, not a bound up.
func hasTree(x api.Slh, tree uint64) bool {
	return tree>>(x.H-treeHeight(x)) == 0
}

// layers hands out the places of the trees that sign, from layer 0 up, each with its leaf: the first of a text, the others of the top below.
func layers(x api.Slh, tree, leaf uint64) iter.Seq2[api.Adrs, uint64] {
	h := treeHeight(x)
	return func(yield func(api.Adrs, uint64) bool) {
		for layer := range x.D {
			at := wots.Put(wots.Put(api.Adrs{}, layerPart, uint64(layer)), treePart, tree)
			if !yield(at, leaf) {
				return
			}
			tree, leaf = tree>>h, tree&(1<<h-1)
		}
	}
}
