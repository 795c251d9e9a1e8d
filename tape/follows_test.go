package tape

import (
	"bytes"
	"math"
	"math/rand"
	"slices"
	"testing"

	"apostille/api"
)

// P13.3

// drawnSizes is sizes that come to no more than there are, some of them 0.
func drawnSizes(r *rand.Rand, left int) []int {
	var sizes []int
	for range r.Intn(12) {
		n := r.Intn(left + 1)
		if r.Intn(4) == 0 {
			n = 0
		}
		sizes = append(sizes, n)
		left -= n
	}
	return sizes
}

// What is taken in parts, by one call or by many, is what is taken at once; and so are the tapes behind it.
func TestInPartsOrAtOnce(t *testing.T) {
	r := rand.New(rand.NewSource(131))
	for range 3000 {
		b := drawn(r.Uint32(), r.Intn(200))
		given := tapeOf(b, r.Intn(len(b)+1))
		sizes, total := drawnSizes(r, Left(given)), 0
		next, taken := given, []byte(nil)
		for _, n := range sizes {
			behind, part, e := Take(next, n)
			if e != api.OK || len(part) != n {
				t.Fatalf("Take of %d: %d bytes, %v", n, len(part), e)
			}
			next, taken, total = behind, append(taken, part...), total+n
		}
		atOnce, whole, e := Take(given, total)
		behind, parts, f := Parts(given, sizes...)
		if e != api.OK || f != api.OK || len(parts) != len(sizes) {
			t.Fatalf("%v: %v, %v, %d parts", sizes, e, f, len(parts))
		}
		if !bytes.Equal(whole, taken) || !bytes.Equal(whole, slices.Concat(parts...)) || !bytes.Equal(whole, b[given.At:given.At+total]) {
			t.Fatalf("%v: %x at once, %x one by one, %x in parts", sizes, whole, taken, parts)
		}
		if !Same(atOnce, next) || !Same(atOnce, behind) || !Same(atOnce, api.Tape{Bytes: b, At: given.At + total}) {
			t.Fatalf("%v: behind it at %d, %d, %d", sizes, atOnce.At, next.At, behind.At)
		}
	}
}

// No byte is given twice and none is left out, till the tape is spent; what is too much takes nothing.
func TestEachByteOnce(t *testing.T) {
	r := rand.New(rand.NewSource(132))
	for range 300 {
		b := drawn(r.Uint32(), r.Intn(300))
		next, taken := tapeOf(b, 0), []byte(nil)
		for Left(next) > 0 {
			n := r.Intn(12)
			behind, part, e := Take(next, n)
			if n > len(b)-len(taken) {
				if e != api.ErrSpent || part != nil || !Same(behind, next) {
					t.Fatalf("%d of %d: %d bytes, %v", n, Left(next), len(part), e)
				}
			} else if e != api.OK || len(part) != n {
				t.Fatalf("%d of %d: %d bytes, %v", n, Left(next), len(part), e)
			}
			next, taken = behind, append(taken, part...)
			if Left(next)+len(taken) != len(b) || !Fit(next) {
				t.Fatalf("%d taken, %d left of %d", len(taken), Left(next), len(b))
			}
		}
		if !bytes.Equal(taken, b) {
			t.Fatalf("%x taken of %x", taken, b)
		}
	}
}

// Behind an error, and behind a step that takes nothing, the next bytes are those that they were.
func TestErrorsTakeNothing(t *testing.T) {
	b := drawn(21, 20)
	next := tapeOf(b, 0)
	for at := range b {
		for _, n := range []int{-1, math.MinInt, len(b) - at + 1, math.MaxInt} {
			next, _, _ = Take(next, n)
			next, _, _ = Parts(next, 1, n)
			next, _, _ = Parts(next, n, 1)
		}
		next, _, _ = Take(next, 0)
		next, _, _ = Parts(next)
		behind, part, e := Take(next, 1)
		if e != api.OK || !bytes.Equal(part, b[at:at+1]) || behind.At != at+1 {
			t.Fatalf("at %d: %x, %v", at, part, e)
		}
		next = behind
	}
}

// The longest tape, in as many parts as it has bytes, and in more that are empty: each takes its own bytes, not a copy of the tape.
func TestManyParts(t *testing.T) {
	b := drawn(22, longest)
	sizes := make([]int, 2*longest)
	for i := range longest {
		sizes[2*i] = 1
	}
	behind, parts, e := Parts(tapeOf(b, 0), sizes...)
	if e != api.OK || len(parts) != len(sizes) || !bytes.Equal(slices.Concat(parts...), b) || !alike(behind, tapeOf(b, longest)) {
		t.Errorf("%d parts, %v", len(parts), e)
	}
	for i, part := range parts {
		if len(part) != sizes[i] {
			t.Fatalf("part %d: %d bytes", i, len(part))
		}
	}
	expectPartsError(t, tapeOf(b, 1), sizes[:2*longest-1], api.ErrSpent)
}

// Rule 0.5

// scribble changes all of a text, and the room behind it.
func scribble(b []byte) {
	b = b[:cap(b)]
	for i := range b {
		b[i] ^= 0xff
	}
}

// What goes in is not changed, what comes out is new memory, and nothing is kept.
func TestNothingShared(t *testing.T) {
	memory, sizes := drawn(23, 40), []int{3, 0, 5, 2, 9}
	for _, given := range []api.Tape{{Bytes: memory[:30], At: 4}, {Bytes: memory[:10], At: 4}, {Bytes: memory[:10], At: 11}, {Bytes: memory[:10], At: -1}} {
		was, sizesWere := slices.Clone(memory), slices.Clone(sizes)
		calls := func() [][]byte {
			a, one, _ := Take(given, 7)
			b, none, _ := Take(given, -1)
			c, parts, _ := Parts(given, sizes...)
			d, _, _ := Parts(given)
			return append([][]byte{a.Bytes, one, b.Bytes, none, c.Bytes, d.Bytes}, parts...)
		}
		told := calls()
		want := make([][]byte, len(told))
		for i, out := range told {
			want[i] = slices.Clone(out)
		}
		for i, out := range told {
			scribble(out)
			for j := i + 1; j < len(told); j++ {
				if !bytes.Equal(told[j], want[j]) {
					t.Errorf("%d bytes at %d: answer %d shares memory with %d", len(given.Bytes), given.At, i, j)
				}
			}
		}
		if !bytes.Equal(memory, was) || !slices.Equal(sizes, sizesWere) {
			t.Errorf("%d bytes at %d: what was given was changed", len(given.Bytes), given.At)
		}
		for i, again := range calls() {
			if !bytes.Equal(again, want[i]) {
				t.Errorf("%d bytes at %d, answer %d: something else the second time", len(given.Bytes), given.At, i)
			}
		}
	}
}

// What a call told stays as it is when what was given is changed behind it.
func TestAnswersStay(t *testing.T) {
	for _, n := range []int{4, -1, 100} {
		b := drawn(24, 12)
		given, want := api.Tape{Bytes: b, At: 3}, tapeOf(b, 3)
		behind, one, e := Take(given, n)
		next, parts, f := Parts(given, 2, n)
		scribble(b)
		if e == api.OK {
			want.At = 7
		}
		if !alike(behind, want) || e == api.OK && !bytes.Equal(one, want.Bytes[3:7]) {
			t.Errorf("Take of %d: %x, %x", n, behind.Bytes, one)
		}
		if f == api.OK {
			want.At = 9
		}
		if !alike(next, want) || f == api.OK && !slices.EqualFunc(parts, [][]byte{want.Bytes[3:5], want.Bytes[5:9]}, bytes.Equal) {
			t.Errorf("Parts of 2 and %d: %x, %x", n, next.Bytes, parts)
		}
	}
}

// Rule 0.7: an empty list is none.
func TestEmptyListsAreNone(t *testing.T) {
	for _, given := range []api.Tape{{}, {Bytes: []byte{}}, {Bytes: []byte{}, At: 1}, {Bytes: []byte{1}}} {
		behind, one, _ := Take(given, 0)
		next, parts, _ := Parts(given, 0)
		if one != nil || len(parts) == 1 && parts[0] != nil {
			t.Errorf("%v: %v, %v", given, one, parts)
		}
		if len(given.Bytes) == 0 && (behind.Bytes != nil || next.Bytes != nil) {
			t.Errorf("%v: behind it %v, %v", given, behind, next)
		}
	}
}
