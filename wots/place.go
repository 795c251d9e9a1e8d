package wots

import (
	"apostille/api"
	"apostille/bits"
)

// Parts of a place, as Put takes them.
const (
	layerPart = 0
	treePart  = 1
	typePart  = 2
	pairPart  = 3
	chainPart = 4
	stepPart  = 5
)

// Put is a place with one of its parts: 0 the layer, 1 the tree, 2 the type (then what is behind it is 0), 3 to 5 the numbers behind.
func Put(a api.Adrs, part int, n uint64) api.Adrs {
	from, to := partAt(part)
	copy(a[from:to], bits.Be(n, to-from))
	if part == typePart {
		clear(a[to:]) // numbers mean something else in each type
	}
	return a
}

// partAt is from where to where a part is, nowhere of what is none.
func partAt(part int) (from, to int) {
	switch part {
	case layerPart:
		return 0, 4
	case treePart:
		return 4, 16
	case typePart:
		return 16, 20
	case pairPart:
		return 20, 24
	case chainPart:
		return 24, 28
	case stepPart:
		return 28, 32
	}
	return 0, 0
}

// ofType is a place of another type, with the pair's number alone behind.
func ofType(a api.Adrs, kind uint64) api.Adrs {
	from, to := partAt(pairPart)
	return Put(Put(a, typePart, kind), pairPart, bits.Num(a[from:to]))
}

// shortened is a place as sums of SHA-2 take it: without bytes that are 0 in all keys.
func shortened(a api.Adrs) []byte {
	return bits.Join(a[3:4], a[8:16], a[19:])
}
