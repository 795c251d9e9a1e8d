package wrap

import (
	"bytes"
	"math/rand"
	"slices"
	"testing"

	"apostille/api"
)

// P11.3

func TestKeysThereAndBack(t *testing.T) {
	r := rand.New(rand.NewSource(112))
	for _, kekSize := range kekSizes {
		for range 300 {
			kek, key := drawn(r.Int63(), kekSize), drawn(r.Int63(), 16+8*r.Intn(12))
			wrapped, e := Wrap(kek, key)
			if e != api.OK || len(wrapped) != len(key)+8 {
				t.Fatalf("Wrap of %d bytes: %d bytes, %v", len(key), len(wrapped), e)
			}
			got, e := Unwrap(kek, wrapped)
			expect(t, "Unwrap of Wrap", got, e, key)
		}
	}
}

// Whatever bytes are read as a key, they are the ones that it is wrapped to. Those of the rule are read, drawn ones are not.
func TestWrapOfWhatUnwrapTells(t *testing.T) {
	r := rand.New(rand.NewSource(113))
	for _, kekSize := range kekSizes {
		for range 300 {
			kek, size := drawn(r.Int63(), kekSize), 16+8*r.Intn(12)
			b := ruledWrap(t, kek, sixes, drawn(r.Int63(), size))
			key, e := Unwrap(kek, b)
			if e != api.OK || len(key) != size {
				t.Fatalf("Unwrap of %d bytes: %d bytes, %v", len(b), len(key), e)
			}
			got, e := Wrap(kek, key)
			expect(t, "Wrap of what Unwrap tells", got, e, b)
			got, e = Unwrap(kek, drawn(r.Int63(), size+8))
			expectError(t, "Unwrap of drawn bytes", got, e, api.ErrWrap)
		}
	}
}

// A wrapped key is a key, too, as long as it is no longer than one may be.
func TestWrapOfWhatIsWrapped(t *testing.T) {
	kek, b := drawn(11, 32), drawn(12, 16)
	var all [][]byte
	for range 20 {
		all = append(all, b)
		wrapped, e := Wrap(kek, b)
		expect(t, "Wrap", wrapped, e, ruledWrap(t, kek, sixes, b))
		b = wrapped
	}
	for _, want := range slices.Backward(all) {
		got, e := Unwrap(kek, b)
		expect(t, "Unwrap", got, e, want)
		b = got
	}
}

// Rule 0.5: what goes in is not changed, what comes out is new memory, and nothing is kept.
func TestNothingShared(t *testing.T) {
	for _, kekSize := range kekSizes {
		for _, size := range []int{16, 24, 32, 400} {
			// There is room behind what is given, which an append would write to.
			given := [][]byte{drawn(21, 64), drawn(22, 500), nil, drawn(24, 500)}
			kek, key, spoilt := given[0][:kekSize], given[1][:size], given[3][:size+8]
			given[2] = slices.Concat(ruledWrap(t, kek, sixes, key), drawn(23, 64))
			wrapped := given[2][:size+8]
			was := make([][]byte, len(given))
			for i, b := range given {
				was[i] = slices.Clone(b)
			}
			calls := func() [][]byte {
				there, _ := Wrap(kek, key)
				back, _ := Unwrap(kek, wrapped)
				none, _ := Unwrap(kek, spoilt)
				return [][]byte{there, back, none}
			}
			told := calls()
			want := make([][]byte, len(told))
			for i, out := range told {
				want[i] = slices.Clone(out)
				scribble(out[:cap(out)])
			}
			for i, b := range given {
				if !bytes.Equal(b, was[i]) {
					t.Errorf("kek of %d, %d bytes: argument %d was changed", kekSize, size, i)
				}
			}
			for i, again := range calls() {
				if !bytes.Equal(again, want[i]) {
					t.Errorf("kek of %d, %d bytes, call %d: it tells something else the second time", kekSize, size, i)
				}
			}
		}
	}
}

// One text as both arguments.
func TestOneTextForBoth(t *testing.T) {
	for _, size := range kekSizes {
		b := drawn(25, size)
		expectBoth(t, b, b, ruledWrap(t, b, sixes, b))
	}
	for _, size := range []int{24, 32} {
		b := drawn(26, size)
		got, e := Unwrap(b, b)
		expectError(t, "Unwrap", got, e, api.ErrWrap)
	}
}

// The words, in order and back: six times each, the steps' numbers from 1 on, for as long as they are wanted, and as often.
func TestWordsAreHandedOut(t *testing.T) {
	text := counted(24)
	l := split(text)
	for wanted := range 19 {
		count := 0
		for step, at := range l.there() {
			if count == wanted {
				break
			}
			if int(step) != count+1 || at != count%3 {
				t.Errorf("there: step %d is told as %d of word %d", count+1, step, at)
			}
			count++
		}
		if count != wanted {
			t.Errorf("there: %d steps, want %d", count, wanted)
		}
		count = 0
		for step, at := range l.back() {
			if count == wanted {
				break
			}
			if int(step) != 18-count || at != (17-count)%3 {
				t.Errorf("back: step %d is told as %d of word %d", 18-count, step, at)
			}
			count++
		}
		if count != wanted {
			t.Errorf("back: %d steps, want %d", count, wanted)
		}
	}
	if !bytes.Equal(slices.Concat(l...), text) {
		t.Errorf("the words are changed: %x", l)
	}
}

// scribble changes every byte.
func scribble(b []byte) {
	for i := range b {
		b[i]++
	}
}
