package mac

import (
	"bytes"

	"apostille/api"
	"apostille/bits"
	"apostille/keccak"
	"apostille/sha"
)

// digester digests however many texts, one behind the other.
type digester func(l ...[]byte) []byte

// behind is what digests texts behind those that are given here. These are gone through but once: a seed may be long, and its parts many.
func behind(kind int, ahead ...[]byte) digester {
	if h, e := sha.New(kind); e == api.OK {
		h = added(h, ahead...)
		return func(l ...[]byte) []byte { return sha.End(added(h, l...)) }
	}
	s, _ := keccak.New(kind) // whoever calls has asked whether there is such a kind
	s = absorbed(s, ahead...)
	return func(l ...[]byte) []byte {
		_, out := keccak.Squeeze(absorbed(s, l...), Size(kind))
		return out
	}
}

// added is a sum of SHA-2 with texts more.
func added(h api.Hash, l ...[]byte) api.Hash {
	for _, b := range l {
		h = sha.Add(h, b)
	}
	return h
}

// absorbed is a sum of SHA-3 with texts more.
func absorbed(s api.Sponge, l ...[]byte) api.Sponge {
	for _, b := range l {
		s = keccak.Absorb(s, b)
	}
	return s
}

// keyed is what digests texts with a key.
func keyed(kind int, key []byte) digester {
	block := blockOf(kind)
	if len(key) > block {
		key = behind(kind)(key)
	}
	key = bits.Join(key, make([]byte, block-len(key)))
	inner := behind(kind, bits.Xor(key, bytes.Repeat([]byte{0x36}, block)))
	outer := behind(kind, bits.Xor(key, bytes.Repeat([]byte{0x5c}, block)))
	return func(l ...[]byte) []byte { return outer(inner(l...)) }
}
