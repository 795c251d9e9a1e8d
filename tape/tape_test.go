package tape

import (
	"bytes"
	"math"
	"slices"
	"testing"

	"apostille/api"
)

const longest = 1 << 20

// drawn is bytes that follow from a seed, in no order that a fault would keep to.
func drawn(seed uint32, size int) []byte {
	b := make([]byte, size)
	for i := range b {
		seed = seed*1664525 + 1013904223
		b[i] = byte(seed >> 24)
	}
	return b
}

// tapeOf is a tape of its own memory.
func tapeOf(b []byte, at int) api.Tape {
	return api.Tape{Bytes: slices.Clone(b), At: at}
}

// alike tells whether two tapes are the same, without what is tested here.
func alike(a, b api.Tape) bool {
	return string(a.Bytes) == string(b.Bytes) && a.At == b.At
}

// expectTake fails unless Take tells these bytes, and the tape behind them.
func expectTake(t *testing.T, given api.Tape, n int, want []byte) {
	t.Helper()
	behind, got, e := Take(given, n)
	if e != api.OK || !bytes.Equal(got, want) {
		t.Errorf("Take of %d, %d bytes at %d: %d bytes, %v; want %d", n, len(given.Bytes), given.At, len(got), e, len(want))
	}
	if !alike(behind, api.Tape{Bytes: given.Bytes, At: given.At + len(want)}) {
		t.Errorf("Take of %d, %d bytes at %d: behind it %d bytes at %d", n, len(given.Bytes), given.At, len(behind.Bytes), behind.At)
	}
}

// expectTakeError fails unless Take tells this error, the tape that was given, and nothing.
func expectTakeError(t *testing.T, given api.Tape, n int, want api.Errno) {
	t.Helper()
	behind, got, e := Take(given, n)
	if e != want || got != nil || !alike(behind, given) {
		t.Errorf("Take of %d, %d bytes at %d: %d bytes, %v, behind it %d bytes at %d; want %v", n, len(given.Bytes), given.At, len(got), e, len(behind.Bytes), behind.At, want)
	}
}

// expectParts fails unless Parts tells these texts, and the tape behind them.
func expectParts(t *testing.T, given api.Tape, sizes []int, want [][]byte) {
	t.Helper()
	behind, got, e := Parts(given, sizes...)
	if e != api.OK || !slices.EqualFunc(got, want, bytes.Equal) {
		t.Errorf("Parts of %v, %d bytes at %d: %d parts, %v; want %d", sizes, len(given.Bytes), given.At, len(got), e, len(want))
	}
	at := given.At + len(slices.Concat(want...))
	if !alike(behind, api.Tape{Bytes: given.Bytes, At: at}) {
		t.Errorf("Parts of %v, %d bytes at %d: behind them %d bytes at %d", sizes, len(given.Bytes), given.At, len(behind.Bytes), behind.At)
	}
}

// expectPartsError fails unless Parts tells this error, the tape that was given, and nothing.
func expectPartsError(t *testing.T, given api.Tape, sizes []int, want api.Errno) {
	t.Helper()
	behind, got, e := Parts(given, sizes...)
	if e != want || got != nil || !alike(behind, given) {
		t.Errorf("Parts of %v, %d bytes at %d: %d parts, %v, behind them %d bytes at %d; want %v", sizes, len(given.Bytes), given.At, len(got), e, len(behind.Bytes), behind.At, want)
	}
}

func TestTheChaptersExamples(t *testing.T) {
	given := api.Tape{Bytes: []byte{1, 2, 3}}
	expectTake(t, given, 2, []byte{1, 2})
	behind, _, _ := Take(given, 2)
	expectTakeError(t, behind, 2, api.ErrSpent)
	expectTake(t, behind, 1, []byte{3})
}

// P13.1

// unfit is tapes that can't be: too many bytes, or a place that is not among them.
func unfit() []api.Tape {
	var l []api.Tape
	for _, size := range []int{0, 1, 3, 256, longest - 1, longest} {
		b := drawn(1, size)
		for _, at := range []int{math.MinInt, math.MinInt + size, math.MinInt32, -size - 1, -1, size + 1, size + 256, 1<<32 + size, math.MaxInt} {
			l = append(l, tapeOf(b, at))
		}
	}
	for _, more := range []int{1, 2, 256, longest} {
		b := drawn(2, longest+more)
		for _, at := range []int{math.MinInt, -1, 0, 1, longest - 1, longest, longest + more, longest + more + 1, math.MaxInt} {
			l = append(l, tapeOf(b, at))
		}
	}
	return l
}

func TestFitAndLeftOfWhatIsFit(t *testing.T) {
	for _, size := range []int{0, 1, 2, 3, 255, 256, 257, 65535, 65536, longest - 1, longest} {
		b := drawn(3, size)
		for _, at := range []int{0, 1, 2, size / 2, size - 1, size} {
			if at < 0 || at > size {
				continue
			}
			given := tapeOf(b, at)
			if !Fit(given) || Left(given) != size-at {
				t.Errorf("%d bytes at %d: fit %v, left %d", size, at, Fit(given), Left(given))
			}
		}
	}
}

func TestFitAndLeftOfWhatIsNot(t *testing.T) {
	for _, given := range unfit() {
		if Fit(given) || Left(given) != 0 {
			t.Errorf("%d bytes at %d: fit %v, left %d", len(given.Bytes), given.At, Fit(given), Left(given))
		}
	}
}

// What is behind a tape's bytes, in the memory that they stand in, is not the tape's.
func TestNothingBehindTheBytes(t *testing.T) {
	given := api.Tape{Bytes: drawn(4, 10)[:3], At: 1}
	if !Fit(given) || Left(given) != 2 {
		t.Errorf("fit %v, left %d", Fit(given), Left(given))
	}
	expectTakeError(t, given, 3, api.ErrSpent)
	given.At = 4
	if Fit(given) || Left(given) != 0 {
		t.Errorf("at 4: fit %v, left %d", Fit(given), Left(given))
	}
	expectTakeError(t, given, 0, api.ErrForm)
}

func TestSame(t *testing.T) {
	texts := [][]byte{nil, {0}, {1}, {0, 0}, {0, 1}, {1, 0}, {1, 2, 3}, {1, 2, 4}, {9, 2, 3}, {1, 9, 3}, drawn(5, longest), drawn(5, longest+1), drawn(5, longest+2)}
	ends := drawn(5, longest)
	ends[longest-1] ^= 1
	texts = append(texts, ends)
	places := []int{math.MinInt, -1, 0, 1, 2, 3, 4, 1 << 32, 1<<32 + 1, math.MaxInt}
	for i, a := range texts {
		for j, b := range texts {
			for _, p := range places {
				for _, q := range places {
					want := i == j && p == q
					if got := Same(tapeShared(a, p), tapeShared(b, q)); got != want {
						t.Errorf("text %d at %d, text %d at %d: %v", i, p, j, q, got)
					}
				}
			}
		}
	}
}

// tapeShared is a tape that stands on what it is given: copies of the longest texts for each of many pairs would take long.
func tapeShared(b []byte, at int) api.Tape {
	return api.Tape{Bytes: b, At: at}
}

// The same in another place of memory, and an empty list against none (rule 0.7).
func TestSameOfOtherMemory(t *testing.T) {
	b := drawn(6, 300)
	if !Same(tapeOf(b, 7), tapeOf(b, 7)) || !Same(api.Tape{Bytes: b[:5:5], At: 2}, api.Tape{Bytes: b[:5], At: 2}) {
		t.Error("the same bytes elsewhere are another tape")
	}
	if !Same(api.Tape{}, api.Tape{Bytes: []byte{}}) || !Same(api.Tape{Bytes: []byte{}}, api.Tape{}) {
		t.Error("an empty list and none are two tapes")
	}
}

// A byte that was given out counts, too: field by field, not by what is left.
func TestSameAsksWhatIsGone(t *testing.T) {
	if Same(tapeOf([]byte{1, 2}, 1), tapeOf([]byte{3, 2}, 1)) || Same(tapeOf([]byte{1, 2}, 1), tapeOf([]byte{2}, 0)) {
		t.Error("tapes of which the same is left are the same")
	}
}

// P13.2: Take

func TestTakeOfEachSize(t *testing.T) {
	for size := range 40 {
		b := drawn(7, size)
		for at := range size + 1 {
			for n := range size - at + 1 {
				expectTake(t, tapeOf(b, at), n, b[at:at+n])
			}
			for n := size - at + 1; n < size+5; n++ {
				expectTakeError(t, tapeOf(b, at), n, api.ErrSpent)
			}
		}
	}
}

func TestTakeOfTheLongestTape(t *testing.T) {
	b := drawn(8, longest)
	for _, at := range []int{0, 1, 255, 256, 65535, 65536, longest - 256, longest - 1, longest} {
		left := longest - at
		for _, n := range []int{0, 1, left / 2, left - 1, left} {
			if n >= 0 && n <= left {
				expectTake(t, tapeOf(b, at), n, b[at:at+n])
			}
		}
		for _, n := range []int{left + 1, left + 2, 1<<32 + left, math.MaxInt - at, math.MaxInt - 1, math.MaxInt} {
			expectTakeError(t, tapeOf(b, at), n, api.ErrSpent)
		}
	}
}

func TestTakeOfTooFew(t *testing.T) {
	for _, size := range []int{0, 1, 5, longest} {
		for _, at := range []int{0, size / 2, size} {
			for _, n := range []int{-1, -2, -5, -256, math.MinInt32, math.MinInt + size, math.MinInt} {
				expectTakeError(t, tapeOf(drawn(9, size), at), n, api.ErrRange)
			}
		}
	}
}

func TestTakeOfWhatIsSpent(t *testing.T) {
	for _, given := range []api.Tape{{}, {Bytes: []byte{}}, tapeOf([]byte{1}, 1), tapeOf(drawn(10, longest), longest)} {
		expectTake(t, given, 0, nil)
		for _, n := range []int{1, 2, 256, longest, math.MaxInt} {
			expectTakeError(t, given, n, api.ErrSpent)
		}
	}
}

// Rule 0.2: whether the tape is fit is asked ahead of how many are wanted.
func TestTakeOfWhatIsNotFit(t *testing.T) {
	for _, given := range unfit() {
		for _, n := range []int{0, 1, -1, longest, longest + 1, -given.At, len(given.Bytes), math.MinInt, math.MaxInt} {
			expectTakeError(t, given, n, api.ErrForm)
		}
	}
}

// P13.2: Parts

// ruledParts is the chapter's words: Take of each, one behind the other.
func ruledParts(given api.Tape, sizes []int) (api.Tape, [][]byte, api.Errno) {
	next, parts := given, [][]byte(nil)
	for _, n := range sizes {
		behind, b, e := Take(next, n)
		if e != api.OK {
			return given, nil, e
		}
		next, parts = behind, append(parts, b)
	}
	return next, parts, api.OK
}

// Up to four sizes, each from below 0 to more than there are, on each short tape and at each place, fit or not.
func TestPartsAreTakenOneBehindTheOther(t *testing.T) {
	choices := []int{-1, 0, 1, 2, 3, 5}
	lists := [][]int{nil}
	for range 4 {
		for _, l := range slices.Clone(lists) {
			for _, n := range choices {
				lists = append(lists, append(slices.Clone(l), n))
			}
		}
	}
	for size := range 6 {
		for at := -1; at <= size+1; at++ {
			given := tapeOf(drawn(11, size), at)
			for _, sizes := range lists {
				wantTape, want, wantErr := ruledParts(given, sizes)
				behind, got, e := Parts(given, sizes...)
				if e != wantErr || !slices.EqualFunc(got, want, bytes.Equal) || !alike(behind, wantTape) {
					t.Fatalf("Parts of %v, %d bytes at %d: %v, %v, at %d; want %v, %v, at %d", sizes, size, at, got, e, behind.At, want, wantErr, wantTape.At)
				}
			}
		}
	}
}

func TestParts(t *testing.T) {
	b := drawn(12, 10)
	given := tapeOf(b, 1)
	expectParts(t, given, []int{2, 0, 3, 4}, [][]byte{b[1:3], nil, b[3:6], b[6:10]})
	expectParts(t, given, []int{9}, [][]byte{b[1:10]})
	expectParts(t, given, []int{0, 0, 0}, [][]byte{nil, nil, nil})
	expectParts(t, given, []int{0}, [][]byte{nil})
	expectParts(t, tapeOf(b, 10), []int{0, 0}, [][]byte{nil, nil})
	expectPartsError(t, given, []int{9, 1}, api.ErrSpent)
	expectPartsError(t, given, []int{10}, api.ErrSpent)
	expectPartsError(t, given, []int{4, 4, 2}, api.ErrSpent)
	expectPartsError(t, given, []int{4, -1, 4}, api.ErrRange)
}

// The first error is the one that is told, whatever is wrong behind it.
func TestPartsTellTheFirstError(t *testing.T) {
	given := tapeOf(drawn(13, 6), 0)
	expectPartsError(t, given, []int{2, 5, -1}, api.ErrSpent)
	expectPartsError(t, given, []int{2, -1, 5}, api.ErrRange)
	expectPartsError(t, given, []int{7, -7}, api.ErrSpent)
	expectPartsError(t, given, []int{-7, 7}, api.ErrRange)
	expectPartsError(t, given, []int{6, 0, 0, 1, -1}, api.ErrSpent)
}

// Sizes that come to little, if they are added up as numbers that wrap round, are not taken.
func TestPartsOfSizesThatWrapRound(t *testing.T) {
	given := tapeOf(drawn(14, 10), 3)
	expectPartsError(t, given, []int{math.MaxInt, math.MaxInt, 2}, api.ErrSpent)
	expectPartsError(t, given, []int{1, math.MaxInt}, api.ErrSpent)
	expectPartsError(t, given, []int{1, math.MaxInt - 3}, api.ErrSpent)
	expectPartsError(t, given, []int{5, -5, 5}, api.ErrRange)
	expectPartsError(t, given, []int{math.MinInt, math.MinInt}, api.ErrRange)
}

func TestPartsOfWhatIsNotFit(t *testing.T) {
	for _, given := range unfit() {
		for _, sizes := range [][]int{{0}, {1}, {-1}, {0, 0}, {math.MaxInt, -1}} {
			expectPartsError(t, given, sizes, api.ErrForm)
		}
	}
}

// Where no size is asked for, nothing is taken, and so no error is told, of whatever tape.
func TestPartsOfNoSizes(t *testing.T) {
	for _, given := range append(unfit(), api.Tape{}, tapeOf(drawn(15, 5), 2), tapeOf(drawn(16, longest), longest)) {
		for _, sizes := range [][]int{nil, {}} {
			behind, got, e := Parts(given, sizes...)
			if e != api.OK || got != nil || !alike(behind, given) {
				t.Errorf("%d bytes at %d: %d parts, %v", len(given.Bytes), given.At, len(got), e)
			}
		}
	}
}
