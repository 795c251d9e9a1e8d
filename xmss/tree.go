package xmss

import (
	"apostille/api"
	"apostille/bits"
	"apostille/wots"
)

// Parts of a place, as wots.Put takes them.
const (
	layerPart  = 0
	treePart   = 1
	typePart   = 2
	pairPart   = 3
	heightPart = 4
	indexPart  = 5
)

// climber is what goes up a tree: its kind, what of a key all know, and the tree's place.
type climber struct {
	api.Slh
	pub []byte
	at  api.Adrs
}

// pair is the place of a leaf.
func (c climber) pair(leaf uint64) api.Adrs {
	return wots.Put(wots.Put(c.at, typePart, api.AdWotsHash), pairPart, leaf)
}

// above is the knot of a height, the i-th, above two others.
func (c climber) above(height int, i uint64, left, right []byte) []byte {
	a := wots.Put(c.at, typePart, api.AdTree)
	a = wots.Put(wots.Put(a, heightPart, uint64(height)), indexPart, i)
	return wots.Sum(c.Slh, c.pub, a, bits.Join(left, right))
}

// top is the tree's top by which a leaf's signature of a text would be right.
func (c climber) top(sig, text []byte, leaf uint64) []byte {
	size := leafSize(c.Slh)
	own, beside := wots.Candidate(c.Slh, sig[:size], text, c.pub, c.pair(leaf)), sig[size:]
	for height := range treeHeight(c.Slh) {
		i, neighbour := leaf>>height, beside[height*c.N:(height+1)*c.N]
		if i%2 == 0 {
			own = c.above(height+1, i/2, own, neighbour)
		} else {
			own = c.above(height+1, i/2, neighbour, own)
		}
	}
	return own
}

// grower is what grows a tree too, by its secret.
type grower struct {
	climber
	secret []byte
}

// knot is the tree's knot of a height, the i-th.
func (g grower) knot(height int, i uint64) []byte {
	if height == 0 {
		return wots.Public(g.Slh, g.secret, g.pub, g.pair(i))
	}
	return g.above(height, i, g.knot(height-1, 2*i), g.knot(height-1, 2*i+1))
}

// sign is the tree's signature of a text, by a leaf.
func (g grower) sign(text []byte, leaf uint64) []byte {
	parts := [][]byte{wots.Sign(g.Slh, text, g.secret, g.pub, g.pair(leaf))}
	for height := range treeHeight(g.Slh) {
		parts = append(parts, g.knot(height, leaf>>height^1))
	}
	return bits.Join(parts...)
}
