package keccak

import (
	"math/bits"
	"math/rand"
	"testing"

	"apostille/api"
)

// What stands here is reckoned as the chapter says it, with no heed to time: the other tests hold the program against it.

// kinds is what there are sums of.
var kinds = []int{api.HaSha3256, api.HaSha3512, api.HaShake128, api.HaShake256}

// ruledBlock is how many bytes a block has.
var ruledBlock = map[int]int{api.HaSha3256: 136, api.HaShake256: 136, api.HaSha3512: 72, api.HaShake128: 168}

// ruledEnd is the byte behind a text.
var ruledEnd = map[int]byte{api.HaSha3256: 6, api.HaSha3512: 6, api.HaShake128: 31, api.HaShake256: 31}

// ruledNumbers is by how many bits the word at x, y is rotated.
func ruledNumbers() [5][5]int {
	var numbers [5][5]int
	x, y := 1, 0
	for t := range 24 {
		numbers[x][y] = (t + 1) * (t + 2) / 2 % 64
		x, y = y, (2*x+3*y)%5
	}
	return numbers
}

// ruledConstants is the rounds' constants, out of a register of 8 bits.
func ruledConstants() [24]uint64 {
	var constants [24]uint64
	register := 1
	for n := range 7 * 24 {
		constants[n/7] |= uint64(register&1) << (1<<(n%7) - 1)
		register *= 2
		if register > 255 {
			register = register&255 ^ 0x71
		}
	}
	return constants
}

// ruledPermute is 25 words behind all rounds.
func ruledPermute(a [25]uint64) [25]uint64 {
	numbers := ruledNumbers()
	for _, constant := range ruledConstants() {
		var parity [5]uint64
		for i, w := range a {
			parity[i%5] ^= w
		}
		for i := range a {
			a[i] ^= parity[(i+4)%5] ^ bits.RotateLeft64(parity[(i+1)%5], 1)
		}
		var moved [25]uint64
		for i, w := range a {
			x, y := i%5, i/5
			moved[y+5*((2*x+3*y)%5)] = bits.RotateLeft64(w, numbers[x][y])
		}
		for i, w := range moved {
			row := i / 5 * 5
			a[i] = w ^ (^moved[row+(i+1)%5] & moved[row+(i+2)%5])
		}
		a[0] ^= constant
	}
	return a
}

// ruledXor is words with one byte xored in.
func ruledXor(a [25]uint64, at int, b byte) [25]uint64 {
	a[at>>3] ^= uint64(b) << (at & 7 << 3)
	return a
}

// ruledAbsorb is a sum that is not squeezed with bytes more.
func ruledAbsorb(s api.Sponge, b []byte) api.Sponge {
	for _, x := range b {
		s.Words = ruledXor(s.Words, s.At, x)
		s.At++
		if s.At == ruledBlock[s.Kind] {
			s.Words, s.At = ruledPermute(s.Words), 0
		}
	}
	return s
}

// ruledSqueeze is so many bytes out of a sum.
func ruledSqueeze(s api.Sponge, n int) (api.Sponge, []byte) {
	if !s.Out {
		s.Words = ruledXor(s.Words, s.At, ruledEnd[s.Kind])
		s.Words = ruledPermute(ruledXor(s.Words, ruledBlock[s.Kind]-1, 128))
		s.At, s.Out = 0, true
	}
	var out []byte
	for range n {
		if s.At == ruledBlock[s.Kind] {
			s.Words, s.At = ruledPermute(s.Words), 0
		}
		out = append(out, byte(s.Words[s.At>>3]>>(s.At&7<<3)))
		s.At++
	}
	return s, out
}

// ruledSum is so many bytes of the sum of a text.
func ruledSum(kind int, b []byte, n int) []byte {
	_, out := ruledSqueeze(ruledAbsorb(api.Sponge{Kind: kind}, b), n)
	return out
}

// drawn is bytes that look random, the same for the same seed.
func drawn(seed int64, size int) []byte {
	b := make([]byte, size)
	rand.New(rand.NewSource(seed)).Read(b)
	return b
}

// drawnWords is words that look random.
func drawnWords(r *rand.Rand) [25]uint64 {
	var a [25]uint64
	for i := range a {
		a[i] = r.Uint64()
	}
	return a
}

// drawnSponge is a fit sum that goes on, of any words, at any place.
func drawnSponge(r *rand.Rand, kind int, out bool) api.Sponge {
	bound := ruledBlock[kind]
	if out {
		bound++
	}
	return api.Sponge{Kind: kind, Words: drawnWords(r), At: r.Intn(bound), Out: out}
}

// begun is a sum of nothing.
func begun(t *testing.T, kind int) api.Sponge {
	t.Helper()
	s, e := New(kind)
	if e != api.OK {
		t.Fatalf("New(%d): %v", kind, e)
	}
	return s
}
