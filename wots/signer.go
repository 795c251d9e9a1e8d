package wots

import (
	"apostille/api"
	"apostille/bits"
	"apostille/keccak"
	"apostille/sha"
)

// Sizes of blocks, which what all sums of a key begin with fills up.
const (
	block256 = 64
	block512 = 128
)

// telling tells the sum of a text at a place.
type telling func(a api.Adrs, text []byte) []byte

// signer is a kind, and how it tells its sums.
type signer struct {
	api.Slh
	sum telling
}

// signerOf is the signer of a kind and of what of a key all know; none, if they can't be.
func signerOf(x api.Slh, pub []byte) (signer, bool) {
	if !Fit(x) || len(pub) != x.N {
		return signer{}, false
	}
	return signer{x, sumsOf(x, pub)}, true
}

// secretSigner is the signer, if a secret has the length of one.
func secretSigner(x api.Slh, secret, pub []byte) (signer, bool) {
	if len(secret) != x.N {
		return signer{}, false
	}
	return signerOf(x, pub)
}

// sumsOf is how a kind tells its sums.
func sumsOf(x api.Slh, pub []byte) telling {
	switch {
	case x.Shake:
		return shakeSums(x.N, pub)
	case x.N == 16:
		return sha256Sums(x.N, pub)
	}
	return eitherSums(x.N, pub)
}

// shakeSums tells those of SHAKE256. They go on from one sum, so that what all begin with is absorbed once.
func shakeSums(n int, pub []byte) telling {
	begun, _ := keccak.New(api.HaShake256) // there is such a kind of sum
	begun = keccak.Absorb(begun, pub)
	return func(a api.Adrs, text []byte) []byte {
		_, out := keccak.Squeeze(keccak.Absorb(begun, bits.Join(a[:], text)), n)
		return out
	}
}

// sha256Sums tells those of SHA-256, which go on from one sum too.
func sha256Sums(n int, pub []byte) telling {
	begun, _ := sha.New(api.HaSha256) // there is such a kind of sum
	begun = sha.Add(begun, filled(pub, block256))
	return func(a api.Adrs, text []byte) []byte {
		return sha.End(sha.Add(begun, bits.Join(shortened(a), text)))[:n]
	}
}

// eitherSums tells those of SHA-512 where a text is long, else those of SHA-256. Long ones are few: nothing is begun for them.
func eitherSums(n int, pub []byte) telling {
	ofShort := sha256Sums(n, pub)
	return func(a api.Adrs, text []byte) []byte {
		if len(text) <= n {
			return ofShort(a, text)
		}
		out, _ := sha.Sum(api.HaSha512, bits.Join(filled(pub, block512), shortened(a), text))
		return out[:n]
	}
}

// filled is a text with bytes 0 up to a size.
func filled(b []byte, size int) []byte {
	return bits.Join(b, make([]byte, size-len(b)))
}

// count is how many chains there are.
func (s signer) count() int {
	return digitCount(s.N)
}

// begins is what a chain begins with: what a secret draws for it.
func (s signer) begins(a api.Adrs, chain int, secret []byte) []byte {
	return s.sum(Put(ofType(a, api.AdWotsDraw), chainPart, uint64(chain)), secret)
}

// along is a chain's value behind the steps from one digit to another, which is not below it.
func (s signer) along(a api.Adrs, chain int, y []byte, from, to uint32) []byte {
	a = Put(a, chainPart, uint64(chain))
	for j := range to - from {
		y = s.sum(Put(a, stepPart, uint64(from+j)), y)
	}
	return y
}

// key is the key of a place whose chains end so.
func (s signer) key(a api.Adrs, ends [][]byte) []byte {
	return s.sum(ofType(a, api.AdWotsKey), bits.Join(ends...))
}
