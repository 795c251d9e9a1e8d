package order

import (
	"bytes"
	"math/rand"
	"slices"
	"testing"
)

// texts is a list of texts, written as strings.
func texts(l ...string) [][]byte {
	var out [][]byte
	for _, s := range l {
		out = append(out, []byte(s))
	}
	return out
}

// strs is a list of texts as strings, which the library orders byte by byte.
func strs(l [][]byte) []string {
	var out []string
	for _, b := range l {
		out = append(out, string(b))
	}
	return out
}

// libraryOrder is the library's word on texts in order.
func libraryOrder(l ...[][]byte) []string {
	out := strs(slices.Concat(l...))
	slices.Sort(out)
	return out
}

// sample is texts that differ early, late, by length alone, or not, the edges of a byte among them.
func sample() [][]byte {
	l := [][]byte{nil, {}}
	for _, s := range []string{"a", "ab", "aba", "abb", "b", "ba", "\x00", "\x00\x00", "\x01", "\x7f", "\x80", "\xff", "\xff\x00", "\xff\xff", "a\x00", "a\xff"} {
		l = append(l, []byte(s), []byte(s))
	}
	long := bytes.Repeat([]byte{7}, 300)
	return append(l, long, long[:299], append(bytes.Clone(long), 0), append(bytes.Clone(long[:299]), 8))
}

// drawn is a list of n texts over few bytes, so that beginnings and repeats are many.
func drawn(r *rand.Rand, n int) [][]byte {
	l := make([][]byte, n)
	for i := range l {
		l[i] = make([]byte, r.Intn(5))
		for j := range l[i] {
			l[i][j] = []byte{0, 1, 0x7f, 0x80, 0xff}[r.Intn(5)]
		}
	}
	return l
}

func TestTheChaptersExamples(t *testing.T) {
	if got := strs(Sort(texts("b", "", "ab"))); !slices.Equal(got, []string{"", "ab", "b"}) {
		t.Errorf("Sort: %q", got)
	}
	if Strict(texts("a", "a")) {
		t.Error("Strict of the same text twice")
	}
	if !Sorted(texts("a", "a")) {
		t.Error("Sorted of the same text twice")
	}
}

// firstDiffers is P4.1's sentence on Less, word by word.
func firstDiffers(a, b []byte) bool {
	for i := range a {
		if i >= len(b) {
			return false
		}
		if a[i] != b[i] {
			return a[i] < b[i]
		}
	}
	return len(a) < len(b)
}

func TestLessIsByTheFirstByteThatDiffersOrByLength(t *testing.T) {
	for _, a := range sample() {
		for _, b := range sample() {
			if got, want := Less(a, b), firstDiffers(a, b); got != want {
				t.Errorf("Less(%x, %x): %v", a, b, got)
			}
		}
	}
	for _, x := range []struct {
		a, b string
		want bool
	}{
		{"", "", false},
		{"", "\x00", true},
		{"\x00", "", false},
		{"a", "ab", true},
		{"ab", "a", false},
		{"ab", "b", true},
		{"b", "ab", false},
		{"\x7f", "\x80", true},
		{"\xff", "\x00\x00", false},
		{"aa\xff", "ab", true},
	} {
		if got := Less([]byte(x.a), []byte(x.b)); got != x.want {
			t.Errorf("Less(%q, %q): %v", x.a, x.b, got)
		}
	}
}

func TestSortedAndStrictLookAtEachNeighbour(t *testing.T) {
	for _, x := range []struct {
		l              [][]byte
		sorted, strict bool
	}{
		{nil, true, true},
		{[][]byte{}, true, true},
		{texts(""), true, true},
		{texts("a"), true, true},
		{[][]byte{nil, {}}, true, false},
		{texts("", "a"), true, true},
		{texts("a", ""), false, false},
		{texts("b", "a"), false, false},
		{texts("a", "ab", "b"), true, true},
		{texts("a", "b", "b"), true, false},
		{texts("a", "a", "b"), true, false},
		{texts("a", "b", "ab"), false, false},
		{texts("b", "a", "c"), false, false},
		{texts("a", "c", "b", "d"), false, false},
		{texts("a", "b", "a"), false, false},
		{texts("\x7f", "\x80", "\xff"), true, true},
	} {
		if got := Sorted(x.l); got != x.sorted {
			t.Errorf("Sorted(%q): %v", x.l, got)
		}
		if got := Strict(x.l); got != x.strict {
			t.Errorf("Strict(%q): %v", x.l, got)
		}
	}
}

func TestSortedAndStrictOfDrawnLists(t *testing.T) {
	r := rand.New(rand.NewSource(41))
	for range 20000 {
		l := drawn(r, r.Intn(5))
		want := strs(l)
		sorted := slices.IsSorted(want)
		if Sorted(l) != sorted {
			t.Fatalf("Sorted(%x): %v", l, !sorted)
		}
		strict := sorted && len(slices.Compact(want)) == len(l)
		if Strict(l) != strict {
			t.Fatalf("Strict(%x): %v", l, !strict)
		}
	}
}

func TestSortIsTheSameTextsEachAsOftenInOrder(t *testing.T) {
	lists := [][][]byte{nil, {}, {nil}, {{}, nil}, texts("a"), texts("a", "a", "a"), texts("b", "a"), sample()}
	r := rand.New(rand.NewSource(42))
	for n := range 60 {
		for range 20 {
			lists = append(lists, drawn(r, n))
		}
	}
	for _, l := range lists {
		got := Sort(l)
		if want := libraryOrder(l); !slices.Equal(strs(got), want) {
			t.Fatalf("Sort(%x): %x, want %x", l, got, want)
		}
		if !Sorted(got) {
			t.Fatalf("Sort(%x) is not Sorted: %x", l, got)
		}
		if Strict(got) != (len(slices.Compact(strs(got))) == len(l)) {
			t.Fatalf("Strict of Sort(%x) is wrong", l)
		}
	}
	if Sort(nil) != nil || Sort([][]byte{}) != nil {
		t.Error("Sort of none is not none")
	}
}

func TestMergeIsSortOfBothTogether(t *testing.T) {
	r := rand.New(rand.NewSource(43))
	for range 3000 {
		a, b := Sort(drawn(r, r.Intn(12))), Sort(drawn(r, r.Intn(12)))
		got := Merge(a, b)
		if want := libraryOrder(a, b); !slices.Equal(strs(got), want) {
			t.Fatalf("Merge(%x, %x): %x, want %x", a, b, got, want)
		}
		if !slices.Equal(strs(got), strs(Sort(slices.Concat(a, b)))) {
			t.Fatalf("Merge(%x, %x) is not Sort of both", a, b)
		}
	}
	for _, x := range []struct{ a, b, want [][]byte }{
		{nil, nil, nil},
		{texts("a"), nil, texts("a")},
		{nil, texts("a", "a"), texts("a", "a")},
		{texts("a", "c"), texts("b"), texts("a", "b", "c")},
		{texts("a", "b"), texts("a", "b"), texts("a", "a", "b", "b")},
		{texts("x", "y"), texts("", "ab"), texts("", "ab", "x", "y")},
	} {
		got := Merge(x.a, x.b)
		if !slices.Equal(strs(got), strs(x.want)) || (got == nil) != (x.want == nil) {
			t.Errorf("Merge(%q, %q): %q", x.a, x.b, got)
		}
	}
}

func TestMergeOfAnUnsortedListIsNone(t *testing.T) {
	wrong := [][][]byte{texts("b", "a"), texts("a", ""), texts("a", "b", "ab"), texts("ab", "a", "b")}
	right := [][][]byte{nil, texts("a"), texts("a", "b"), texts("a", "a")}
	for _, w := range wrong {
		for _, l := range append(right, wrong...) {
			if got := Merge(w, l); got != nil {
				t.Errorf("Merge(%q, %q): %q", w, l, got)
			}
			if got := Merge(l, w); got != nil {
				t.Errorf("Merge(%q, %q): %q", l, w, got)
			}
		}
	}
}

func TestSortDoesNotHangOnTheOrderGiven(t *testing.T) {
	l := sample()
	want := strs(Sort(l))
	r := rand.New(rand.NewSource(44))
	for range 500 {
		r.Shuffle(len(l), func(i, j int) { l[i], l[j] = l[j], l[i] })
		if got := strs(Sort(l)); !slices.Equal(got, want) {
			t.Fatalf("Sort of %x: %x", l, got)
		}
	}
	for _, p := range permutations(texts("", "a", "a", "ab", "b")) {
		if got := strs(Sort(p)); !slices.Equal(got, []string{"", "a", "a", "ab", "b"}) {
			t.Fatalf("Sort of %q: %q", p, got)
		}
	}
	a, b := Sort(l[:9]), Sort(l[9:])
	if got, back := strs(Merge(a, b)), strs(Merge(b, a)); !slices.Equal(got, want) || !slices.Equal(back, want) {
		t.Error("Merge hangs on which list is first")
	}
}

// permutations is a list in every order.
func permutations(l [][]byte) [][][]byte {
	if len(l) == 0 {
		return [][][]byte{nil}
	}
	var out [][][]byte
	for i := range l {
		for _, p := range permutations(slices.Concat(l[:i], l[i+1:])) {
			out = append(out, append([][]byte{l[i]}, p...))
		}
	}
	return out
}

func TestOfTwoJustOneIsLessOrTheyAreTheSame(t *testing.T) {
	l := sample()
	for _, a := range l {
		for _, b := range l {
			n := 0
			for _, holds := range []bool{Less(a, b), Less(b, a), bytes.Equal(a, b)} {
				if holds {
					n++
				}
			}
			if n != 1 {
				t.Fatalf("%x and %x: %d of Less, Less back, and the same", a, b, n)
			}
			for _, c := range l {
				if Less(a, b) && Less(b, c) && !Less(a, c) {
					t.Fatalf("%x, %x, %x: Less does not go on", a, b, c)
				}
			}
		}
	}
}

// whole is a copy of a list and of its texts.
func whole(l [][]byte) [][]byte {
	var out [][]byte
	for _, b := range l {
		out = append(out, bytes.Clone(b))
	}
	return out
}

func TestArgumentsAreNotChanged(t *testing.T) {
	l, a, b := texts("c", "a", "b", ""), texts("a", "c"), texts("b", "d")
	kept, keptA, keptB := whole(l), whole(a), whole(b)
	Sort(l)
	Merge(a, b)
	Merge(l, a)
	Sorted(l)
	Strict(l)
	Less(l[0], l[1])
	roomy := append(make([][]byte, 0, 8), a...)
	roomy = roomy[:4]
	roomy[2], roomy[3] = []byte("x"), []byte("y")
	Merge(roomy[:2], b)
	Sort(roomy[:2])
	if !slices.Equal(strs(l), strs(kept)) || !slices.Equal(strs(a), strs(keptA)) || !slices.Equal(strs(b), strs(keptB)) {
		t.Error("an argument was changed")
	}
	if !slices.Equal(strs(roomy), []string{"a", "c", "x", "y"}) {
		t.Errorf("what stands behind an argument was changed: %q", roomy)
	}
}

// spoil changes every byte of every text, up to its capacity, and every place of the list.
func spoil(l [][]byte) {
	for i, b := range l {
		b = b[:cap(b)]
		for j := range b {
			b[j] ^= 0x55
		}
		l[i] = nil
	}
}

func TestAnswersShareNoMemory(t *testing.T) {
	same := []byte("same")
	l := [][]byte{same, []byte("b"), same, []byte("ab"), same[:2]}
	got := Sort(l)
	spoil(got)
	if !slices.Equal(strs(l), []string{"same", "b", "same", "ab", "sa"}) {
		t.Errorf("Sort's answer shares memory with its argument: %q", l)
	}
	a, b := [][]byte{same[:1], same}, [][]byte{same, same}
	got = Merge(a, b)
	spoil(got)
	if string(same) != "same" || len(a[1]) != 4 || len(b[0]) != 4 {
		t.Error("Merge's answer shares memory with its arguments")
	}
	for _, got := range [][][]byte{Sort(l), Merge(a, b), Sort(sorted(l)), Merge(a, nil), Merge(nil, b)} {
		want := strs(got)
		for i := range got {
			back := bytes.Clone(got[i])
			full := got[i][:cap(got[i])]
			for k := range full {
				full[k] ^= 0x55
			}
			for j := range got {
				if j != i && string(got[j]) != want[j] {
					t.Fatalf("texts %d and %d of one answer share memory", i, j)
				}
			}
			copy(got[i], back)
		}
	}
}

// sorted is a list in order whose texts are those given, not copies.
func sorted(l [][]byte) [][]byte {
	out := slices.Clone(l)
	slices.SortFunc(out, bytes.Compare)
	return out
}

func TestGreatLists(t *testing.T) {
	const n = 1 << 20
	empty := make([][]byte, n)
	if got := Sort(empty); len(got) != n || !Sorted(got) || Strict(got) {
		t.Error("Sort of 2^20 empty texts")
	}
	r := rand.New(rand.NewSource(45))
	single := make([][]byte, n)
	count := [256]int{}
	for i := range single {
		single[i] = []byte{byte(r.Intn(256))}
		count[single[i][0]]++
	}
	got := Sort(single)
	for _, b := range got {
		count[b[0]]--
	}
	if count != [256]int{} || !Sorted(got) {
		t.Error("Sort of 2^20 texts of one byte: not each as often, or not in order")
	}
	long := make([]byte, n)
	other := append(bytes.Clone(long[:n-1]), 1)
	if !Less(long, other) || Less(other, long) || Less(long, long) || !Less(long[:n-1], long) {
		t.Error("Less of texts of 2^20 bytes")
	}
}
