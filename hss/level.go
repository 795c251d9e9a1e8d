package hss

import (
	"iter"

	"apostille/api"
	"apostille/bits"
	"apostille/lms"
	"apostille/sha"
)

const numberSize = 4 // a leaf's number

// What stands in the sums that the tree below a leaf has its own from.
const (
	seedMark = 0xfffe
	idMark   = 0xffff
)

// level is a tree of a fit key: its kind, its id, its seed, and the leaf that signs.
type level struct {
	api.Tree
	id, seed []byte
	q        uint32
}

// levels hands out the trees that a fit key's n-th signature uses, from the top on, counted from 0 on.
func levels(k api.HssKey, n uint64) iter.Seq2[int, level] {
	return func(yield func(int, level) bool) {
		own := level{id: k.Id, seed: k.Seed}
		left := height(k) // of n's bits, those that no level has told yet are the lowest
		for i, t := range k.Trees {
			if i > 0 {
				own.id, own.seed = own.below()
			}
			own.Tree = t
			left -= own.H
			own.q = own.leaf(n >> left)
			if !yield(i, own) {
				return
			}
		}
	}
}

// leaf is the leaf that the lowest bits of a number tell.
func (l level) leaf(n uint64) uint32 {
	return uint32(n & (1<<l.H - 1))
}

// below is id and seed of the tree below the level's leaf.
func (l level) below() ([]byte, []byte) {
	return l.sum(idMark)[:api.LmsId], l.sum(seedMark)
}

// sum is H of the level's leaf with a mark and the seed. It has no error to tell: there is such a kind of sum.
func (l level) sum(mark uint64) []byte {
	out, _ := sha.Sum(api.HaSha256, bits.Join(l.id, bits.Be(uint64(l.q), numberSize), bits.Be(mark, 2), []byte{255}, l.seed))
	return out
}

// key is the tree's key. There is no error to tell of it: the trees of a fit key are fit, and not too high.
func (l level) key() []byte {
	out, _ := lms.Public(l.Tree, l.id, l.seed)
	return out
}

// sign is the tree's signature of a text, by the level's leaf. There is no error to tell, as with the key, and there is such a leaf.
func (l level) sign(text []byte) []byte {
	out, _ := lms.Sign(l.Tree, l.id, l.seed, l.q, text)
	return out
}
