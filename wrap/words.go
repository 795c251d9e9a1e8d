package wrap

import (
	"iter"
	"slices"
)

const (
	wordSize = 8
	rounds   = 6 // how often each word has its turn
)

// words is what is wrapped, word by word. A step puts another word in the place of one, and leaves the bytes of the old one alone: they may be those that were given.
type words [][]byte

// split is the words of a text.
func split(b []byte) words {
	return slices.Collect(slices.Chunk(b, wordSize))
}

// there hands out the steps, each one's number with the place of its word, the first one first.
func (l words) there() iter.Seq2[uint64, int] {
	return func(yield func(uint64, int) bool) {
		for i := range l.steps() {
			if !yield(l.step(i)) {
				return
			}
		}
	}
}

// back hands out the steps, the last one first.
func (l words) back() iter.Seq2[uint64, int] {
	return func(yield func(uint64, int) bool) {
		for i := l.steps() - 1; i >= 0; i-- {
			if !yield(l.step(i)) {
				return
			}
		}
	}
}

// steps is how many steps there are.
func (l words) steps() int {
	return rounds * len(l)
}

// step is a step's number, which counts from 1 on, and the place of its word.
func (l words) step(i int) (uint64, int) {
	return uint64(i + 1), i % len(l)
}
