package mac

import (
	"bytes"
	"crypto/sha256"
	"crypto/sha3"
	"crypto/sha512"
	"encoding/binary"
	"hash"
	"math"
	"math/rand"
	"slices"

	"apostille/api"
)

// What stands here is reckoned as the chapter says it, by the library's sums, each from its beginning on: the other tests hold the program against it.

// kinds is what there are digests of, keyKinds those that take keys, maskKinds those that mask.
var (
	kinds     = []int{api.HaSha256, api.HaSha384, api.HaSha512, api.HaSha3256, api.HaSha3512, api.HaShake128, api.HaShake256}
	keyKinds  = kinds[:5]
	maskKinds = kinds[:3]
)

// otherKinds is what there are no digests of.
var otherKinds = []int{math.MinInt, math.MinInt32, -7, -1, 0, 8, 9, 10, 255, 256, 257, 263, 1 << 32, 1<<32 + 1, 1<<32 + 7, math.MaxInt}

// notOf is all kinds, and what is none, but for some.
func notOf(some []int) []int {
	return slices.DeleteFunc(slices.Concat(kinds, otherKinds), func(kind int) bool { return slices.Contains(some, kind) })
}

// ruledSize is how many bytes a digest has.
var ruledSize = map[int]int{1: 32, 2: 48, 3: 64, 4: 32, 5: 64, 6: 32, 7: 64}

// ruledBlock is how many bytes a block has.
var ruledBlock = map[int]int{1: 64, 2: 128, 3: 128, 4: 136, 5: 72}

// library is the library's sum of a kind that takes keys.
func library(kind int) func() hash.Hash {
	return map[int]func() hash.Hash{
		1: sha256.New,
		2: sha512.New384,
		3: sha512.New,
		4: func() hash.Hash { return sha3.New256() },
		5: func() hash.Hash { return sha3.New512() },
	}[kind]
}

// ruledDigest is the digest of texts, one behind the other.
func ruledDigest(kind int, l ...[]byte) []byte {
	b := slices.Concat(l...)
	switch kind {
	case api.HaShake128:
		return sha3.SumSHAKE128(b, 32)
	case api.HaShake256:
		return sha3.SumSHAKE256(b, 64)
	}
	h := library(kind)()
	h.Write(b)
	return h.Sum(nil)
}

// ruledHmac is the digest of texts with a key.
func ruledHmac(kind int, key []byte, l ...[]byte) []byte {
	block := ruledBlock[kind]
	if len(key) > block {
		key = ruledDigest(kind, key)
	}
	inner, outer := bytes.Repeat([]byte{0x36}, block), bytes.Repeat([]byte{0x5c}, block)
	for i, x := range key {
		inner[i] ^= x
		outer[i] ^= x
	}
	return ruledDigest(kind, outer, ruledDigest(kind, inner, slices.Concat(l...)))
}

// ruledExpand is all bytes that a key can be expanded to.
func ruledExpand(kind int, key, info []byte) []byte {
	var ahead, out []byte
	for i := 1; i < 256; i++ {
		ahead = ruledHmac(kind, key, ahead, info, []byte{byte(i)})
		out = append(out, ahead...)
	}
	return out
}

// ruledMask is so many bytes of a seed, and perhaps some more.
func ruledMask(kind int, seed []byte, n int) []byte {
	var out []byte
	for i := uint32(0); len(out) < n; i++ {
		out = append(out, ruledDigest(kind, seed, binary.BigEndian.AppendUint32(nil, i))...)
	}
	return out
}

// drawn is bytes that look random, the same for the same seed.
func drawn(seed int64, size int) []byte {
	b := make([]byte, size)
	rand.New(rand.NewSource(seed)).Read(b)
	return b
}
