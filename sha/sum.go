package sha

import (
	"math"

	"apostille/api"
	"apostille/bits"
)

// word is what sums are reckoned with.
type word interface{ uint32 | uint64 }

// state is where a sum stands: its words.
type state[W word] [8]W

// sum is a sum of either word size at work: its words, and its rounds' constants.
type sum[W word] struct {
	words     state[W]
	constants [80]W // of narrow words the first 64 are used
}

// turns is by how many bits a word is turned to the right, thrice.
type turns struct{ first, second, third int }

// either is the one thing of narrow words, the other one of wide ones.
func either[W word, T any](narrow, wide T) T {
	if uint64(^W(0)) > math.MaxUint32 {
		return wide
	}
	return narrow
}

// firstBits is a word of what stands in 64 bits, from the highest bit on.
func firstBits[W word](n uint64) W {
	return W(n >> (64 - either[W](32, 64)))
}

// begin is where a sum of nothing stands: eight roots' bits, from one of them on.
func begin[W word](roots [16]uint64, from int) state[W] {
	var l state[W]
	for i := range l {
		l[i] = firstBits[W](roots[from+i])
	}
	return l
}

// stored is words as they are kept from call to call.
func (l state[W]) stored() [8]uint64 {
	var out [8]uint64
	for i, w := range l {
		out[i] = uint64(w)
	}
	return out
}

// resume is the sum that goes on from what was kept, by its constants' roots.
func resume[W word](kept [8]uint64, roots [80]uint64) *sum[W] {
	var s sum[W]
	for i, n := range kept {
		s.words[i] = W(n)
	}
	for i, root := range roots {
		s.constants[i] = firstBits[W](root)
	}
	return &s
}

// add is a fit sum with bytes more.
func add[W word](h api.Hash, b []byte) api.Hash {
	s := resume[W](h.Words, cubeRoots)
	fill := min(len(b), s.block()-len(h.Tail))
	// Where these bytes do not fill up the tail's block, there are none behind them.
	rest := s.take(bits.Join(h.Tail, b[:fill]))
	rest = bits.Join(rest, s.take(b[fill:]))
	return api.Hash{Kind: h.Kind, Words: s.words.stored(), Tail: rest, Size: h.Size + uint64(len(b))}
}

// finish is so many bytes of the sum behind a tail and what fills up its last block.
func finish[W word](h api.Hash, size int) []byte {
	s := resume[W](h.Words, cubeRoots)
	rest := s.take(h.Tail)
	room := s.block() - len(rest) - 1 // the byte 128 always has its place
	if room < s.block()/8 {
		room += s.block()
	}
	s.take(bits.Join(rest, []byte{128}, bits.Be(8*h.Size, room)))
	return s.words.bytes(size)
}

// bytes is so many bytes of words, the highest of each first.
func (l state[W]) bytes(size int) []byte {
	out := make([]byte, size)
	each := either[W](4, 8)
	for i := range out {
		out[i] = byte(l[i/each] >> (8 * (each - 1 - i%each)))
	}
	return out
}

// block is how many bytes a block has.
func (s *sum[W]) block() int {
	return either[W](64, 128)
}

// take mixes in a text's whole blocks, and tells what is behind them.
func (s *sum[W]) take(b []byte) []byte {
	for len(b) >= s.block() {
		s.mix(spread[W](b[:s.block()]))
		b = b[s.block():]
	}
	return b
}

// spread is a block's words, one for each round.
func spread[W word](block []byte) [80]W {
	var l [80]W
	each := either[W](4, 8)
	for t := range 16 {
		l[t] = W(bits.Num(block[t*each : (t+1)*each]))
	}
	s0 := either[W](turns{7, 18, 3}, turns{1, 8, 7})
	s1 := either[W](turns{17, 19, 10}, turns{19, 61, 6})
	for t := 16; t < either[W](64, 80); t++ {
		l[t] = shifted(l[t-2], s1) + l[t-7] + shifted(l[t-15], s0) + l[t-16]
	}
	return l
}

// mix goes all rounds with a block's words.
func (s *sum[W]) mix(l [80]W) {
	s0 := either[W](turns{2, 13, 22}, turns{28, 34, 39})
	s1 := either[W](turns{6, 11, 25}, turns{14, 18, 41})
	a, b, c, d := s.words[0], s.words[1], s.words[2], s.words[3]
	e, f, g, h := s.words[4], s.words[5], s.words[6], s.words[7]
	for t := range either[W](64, 80) {
		t1 := h + turned(e, s1) + (e&f ^ ^e&g) + s.constants[t] + l[t]
		t2 := turned(a, s0) + (a&b ^ a&c ^ b&c)
		h, g, f, e, d, c, b, a = g, f, e, d+t1, c, b, a, t1+t2
	}
	for i, w := range [8]W{a, b, c, d, e, f, g, h} {
		s.words[i] += w
	}
}

// turned is a word turned by each, xored.
func turned[W word](x W, by turns) W {
	width := either[W](32, 64)
	return (x>>by.first | x<<(width-by.first)) ^ (x>>by.second | x<<(width-by.second)) ^ (x>>by.third | x<<(width-by.third))
}

// shifted is a word turned by each but the third one, by which it is shifted, xored.
func shifted[W word](x W, by turns) W {
	width := either[W](32, 64)
	return (x>>by.first | x<<(width-by.first)) ^ (x>>by.second | x<<(width-by.second)) ^ x>>by.third
}
