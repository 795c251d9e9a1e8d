package der

import (
	"bytes"
	"math/rand"
	"slices"
	"testing"

	"apostille/api"
	"apostille/order"
)

// P5.2

// expectCases fails unless each text is wrong for its reason, alone and in other values, behind which more is wrong.
func expectCases(t *testing.T, want api.Errno, texts ...[]byte) {
	t.Helper()
	for _, b := range texts {
		expectWrong(t, b, want)
		for _, tag := range []int{api.TagSeq, api.TagSet, api.TagBox + 7} {
			expectWrong(t, wrapped(tag, 1, b), want)
			expectWrong(t, wrapped(tag, 20, b), want)
			expectWrong(t, append(wrapped(tag, 2, b), 1, 2, 3), want)
		}
		sound := []byte{2, 1, 7}
		expectWrong(t, wrapped(api.TagSet, 1, slices.Concat(sound, b)), want) // ahead of the order
		expectWrong(t, wrapped(api.TagSeq, 1, slices.Concat(sound, sound, b)), want)
	}
}

func TestParseTooLong(t *testing.T) {
	expectWrong(t, make([]byte, api.MaxDer+1), api.ErrLong)
	expectWrong(t, make([]byte, 4*api.MaxDer), api.ErrLong)
	expectWrong(t, append(mustBytes(t, sized(api.MaxDer)), 0), api.ErrLong) // ahead of the tail
	expectWrong(t, bytes.Repeat([]byte{31}, api.MaxDer+1), api.ErrLong)
	expectWrong(t, bytes.Repeat([]byte{31}, api.MaxDer), api.ErrTag)
	expectWrong(t, append(mustBytes(t, sized(api.MaxDer-1)), 0), api.ErrTail)
	long := slices.Concat(head(api.TagBytes, api.MaxDer-4), make([]byte, api.MaxDer-4))
	expectWrong(t, long, api.ErrLong)
	expectWrong(t, long[:api.MaxDer], api.ErrForm)
}

func TestParseOfNoTagOrNoLength(t *testing.T) {
	expectWrong(t, nil, api.ErrForm)
	expectWrong(t, []byte{}, api.ErrForm)
	for _, tag := range slices.Concat(plainTags, boxTags) {
		expectWrong(t, []byte{byte(tag)}, api.ErrForm)
		expectWrong(t, []byte{48, 1, byte(tag)}, api.ErrForm)
		expectWrong(t, []byte{48, 1, byte(tag), 0}, api.ErrForm) // what would be the length lies behind the box
		expectWrong(t, []byte{48, 3, 5, 0, byte(tag)}, api.ErrForm)
		expectWrong(t, []byte{48, 3, 5, 0, byte(tag), 0}, api.ErrForm)
	}
}

func TestParseOfWhatIsNoTag(t *testing.T) {
	for tag := range 256 {
		if slices.Contains(plainTags, tag) || slices.Contains(boxTags, tag) {
			continue
		}
		x := byte(tag)
		expectCases(t, api.ErrTag, []byte{x, 0}, []byte{x, 1, 1}, []byte{x})
		expectCases(t, api.ErrTag, []byte{x, 128}, []byte{x, 100}, []byte{x, 131, 0}) // ahead of the length
	}
}

func TestParseOfLengthsWrittenOtherwise(t *testing.T) {
	for _, length := range [][]byte{
		{128}, {128, 0, 0}, {128, 5, 0, 0, 0},
		{129, 0}, {129, 1}, {129, 127},
		{130, 0, 0}, {130, 0, 1}, {130, 0, 127}, {130, 0, 128}, {130, 0, 255},
		{131, 0, 0, 1}, {131, 0, 0, 200}, {131, 0, 1, 0}, {131, 0, 255, 255},
		{132, 0, 0, 0, 1}, {132, 0, 1, 0, 0}, {132, 1, 0, 0, 0}, {133, 0, 0, 0, 0, 1}, {136, 0, 0, 0, 0, 0, 0, 0, 1}, {255}, {255, 1},
	} {
		for _, tag := range []byte{2, 4, 5, 48, 49, 128, 160} {
			expectWrong(t, slices.Concat([]byte{tag}, length), api.ErrForm)
			// As many bytes as it could ask for are there, and are others' values.
			text := slices.Concat([]byte{tag}, length, bytes.Repeat([]byte{5, 0}, 40000))
			expectWrong(t, text, api.ErrForm)
			expectWrong(t, slices.Concat(head(api.TagSeq, len(text)), text), api.ErrForm)
		}
	}
}

func TestParseOfLengthsThatAreCutOff(t *testing.T) {
	for _, length := range [][]byte{{129}, {130}, {130, 1}, {131}, {131, 1}, {131, 1, 0}} {
		text := slices.Concat([]byte{4}, length)
		expectWrong(t, text, api.ErrForm)
		expectWrong(t, wrapped(api.TagSeq, 1, text), api.ErrForm)
		// What would be the rest of it lies behind the box.
		expectWrong(t, append(wrapped(api.TagSeq, 1, text), make([]byte, 70000)...), api.ErrForm)
		expectWrong(t, append(wrapped(api.TagSeq, 1, text), bytes.Repeat([]byte{200}, 60000)...), api.ErrForm)
	}
}

func TestParseOfEachLengthOfOneByte(t *testing.T) {
	for first := range 256 {
		b := append([]byte{4, byte(first)}, bytes.Repeat([]byte{200}, 200)...)
		switch {
		case first < 128:
			expectWrong(t, b, api.ErrTail)
			expectFit(t, leaf(api.TagBytes, b[2:2+first]...), b[:2+first])
		default: // 129 is a length of 200, of which one byte is missing; the others are greater, or none
			expectWrong(t, b, api.ErrForm)
		}
	}
}

// The shortest long forms, and those one less, which are to be shorter.
func TestParseOfTheLeastLongForms(t *testing.T) {
	body := func(size int) []byte { return make([]byte, size) }
	for _, c := range []struct {
		head []byte
		size int
		want api.Errno
	}{
		{[]byte{4, 129, 127}, 127, api.ErrForm},
		{[]byte{4, 129, 128}, 128, api.OK},
		{[]byte{4, 130, 0, 255}, 255, api.ErrForm},
		{[]byte{4, 130, 1, 0}, 256, api.OK},
		{[]byte{4, 131, 0, 255, 255}, 65535, api.ErrForm},
		{[]byte{4, 131, 1, 0, 0}, 65536, api.OK},
	} {
		n, e := Parse(append(c.head, body(c.size)...))
		if e != c.want || e == api.OK && len(n.Bytes) != c.size {
			t.Errorf("length % x: %v and %d bytes", c.head, e, len(n.Bytes))
		}
	}
}

func TestParseOfLengthsThatGoBeyond(t *testing.T) {
	for _, tag := range []byte{1, 2, 3, 4, 5, 6, 12, 24, 48, 49, 128, 158, 160, 190} {
		expectWrong(t, []byte{tag, 1}, api.ErrForm)
		expectWrong(t, []byte{tag, 127, 5, 0}, api.ErrForm)
		expectWrong(t, []byte{tag, 131, 255, 255, 255, 5, 0}, api.ErrForm)
		expectWrong(t, append([]byte{tag, 129, 201}, make([]byte, 200)...), api.ErrForm)
		// Of a part beyond its box, though not beyond all.
		expectWrong(t, []byte{48, 3, tag, 2, 1, 1, 1, 1}, api.ErrForm)
		expectWrong(t, []byte{48, 6, 160, 2, tag, 1, 5, 0}, api.ErrForm)
		// Ahead of what is wrong within.
		expectWrong(t, []byte{tag, 3, 31, 0}, api.ErrForm)
	}
}

func TestParseDepth(t *testing.T) {
	for _, tag := range []int{api.TagSeq, api.TagSet, api.TagBox + 1} {
		for boxes := range 32 {
			if _, e := Parse(wrapped(tag, boxes, []byte{5, 0})); e != api.OK {
				t.Errorf("%d deep: %v", boxes+1, e)
			}
		}
		if _, e := Parse(wrapped(tag, 32, nil)); e != api.OK {
			t.Errorf("32 boxes with nothing in them: %v", e)
		}
		// Ahead of its tag, whatever is there.
		for _, b := range [][]byte{{5, 0}, {5}, {31}, {31, 0}, {2, 0}, {4, 128}, {4, 9}, {49, 0}, {5, 0, 31}, {0}} {
			expectWrong(t, wrapped(tag, 32, b), api.ErrDepth)
			expectWrong(t, wrapped(tag, 33, b), api.ErrDepth)
			expectWrong(t, wrapped(tag, 40, b), api.ErrDepth)
			expectWrong(t, append(wrapped(tag, 32, b), 0), api.ErrDepth)
		}
		// What is wrong ahead of it, and at the deepest place itself, comes first.
		expectWrong(t, wrapped(tag, 31, []byte{31}), api.ErrTag)
		expectWrong(t, wrapped(tag, 31, []byte{4, 128}), api.ErrForm)
		expectWrong(t, wrapped(tag, 31, []byte{48, 1}), api.ErrForm)
		expectWrong(t, wrapped(tag, 31, []byte{2, 0}), api.ErrValue)
		expectWrong(t, wrapped(tag, 30, []byte{1, 0, 48, 2, 48, 0}), api.ErrValue)
	}
	// Behind the deepest that may be, the depth is as it was.
	b := wrapped(api.TagSeq, 31, []byte{5, 0})
	expectWrong(t, wrapped(api.TagSeq, 1, slices.Concat(b[2:], []byte{1, 0})), api.ErrValue)
	if _, e := Parse(wrapped(api.TagSeq, 1, slices.Concat(b[2:], b[2:]))); e != api.OK {
		t.Errorf("two deep ones, one behind the other: %v", e)
	}
}

func TestParseOfBytesThatDoNotFit(t *testing.T) {
	expectCases(t, api.ErrValue,
		[]byte{1, 0}, []byte{1, 1, 1}, []byte{1, 2, 0, 0}, []byte{2, 0}, []byte{2, 2, 0, 127}, []byte{2, 2, 255, 128},
		[]byte{3, 0}, []byte{3, 1, 1}, []byte{3, 2, 8, 0}, []byte{3, 2, 1, 1}, []byte{5, 1, 0}, []byte{6, 0}, []byte{6, 1, 128},
		[]byte{12, 1, 128}, []byte{24, 0}, []byte{24, 1, 90})
}

func TestParseTheFirstThatIsWrong(t *testing.T) {
	value, tag, form, unordered := []byte{1, 1, 1}, []byte{31, 0}, []byte{4, 128}, []byte{49, 6, 2, 1, 2, 2, 1, 1}
	for _, c := range []struct {
		b    []byte
		want api.Errno
	}{
		{value, api.ErrValue}, {tag, api.ErrTag}, {form, api.ErrForm}, {unordered, api.ErrOrder},
	} {
		for _, behind := range [][]byte{value, tag, form, unordered, {5}, {5, 0}} {
			expectWrong(t, slices.Concat(c.b, behind), c.want)
			expectWrong(t, wrapped(api.TagSeq, 1, slices.Concat(c.b, behind)), c.want)
			expectWrong(t, slices.Concat(wrapped(api.TagBox, 1, c.b), behind), c.want)
		}
	}
	// A set's order is asked behind all of its parts, and behind theirs.
	expectWrong(t, []byte{49, 9, 2, 1, 2, 2, 1, 1, 1, 1, 1}, api.ErrValue)
	expectWrong(t, []byte{49, 8, 2, 1, 2, 2, 1, 1, 31, 0}, api.ErrTag)
	expectWrong(t, []byte{49, 7, 2, 1, 2, 2, 1, 1, 5}, api.ErrForm)
	expectWrong(t, []byte{49, 7, 5, 0, 49, 3, 1, 1, 1}, api.ErrValue)
}

func TestParseTail(t *testing.T) {
	for _, n := range someValues() {
		b := mustBytes(t, n)
		for _, behind := range [][]byte{{0}, {5, 0}, {31}, {48}, {255}, b, make([]byte, 1000)} {
			expectWrong(t, slices.Concat(b, behind), api.ErrTail)
		}
	}
}

// someValues is fit values of each tag, of some sizes and shapes.
func someValues() []api.Node {
	l := []api.Node{
		leaf(api.TagInt, 0, 128), leaf(api.TagBits, 3, 1, 8), leaf(api.TagUtf8, []byte("\u20ac")...),
		leaf(api.TagBytes, make([]byte, 127)...), leaf(api.TagBytes, make([]byte, 128)...), leaf(api.TagBytes, make([]byte, 256)...),
		nested(api.TagSeq, 31), nested(api.TagSet, 20),
		box(api.TagSet, leaf(api.TagInt, 1), leaf(api.TagInt, 1), leaf(api.TagInt, 1, 0), leaf(api.TagBytes, 1)),
	}
	for _, tag := range plainTags {
		l = append(l, leaf(tag, fitting[tag]...))
	}
	for _, tag := range boxTags {
		l = append(l, box(tag), box(tag, leaf(api.TagInt, 1), leaf(api.TagNull)))
	}
	return append(l, box(api.TagSeq, l...), box(api.TagBox, l[:6]...), nested(api.TagSeq, 32))
}

// The document on reading again, apart from the program: places in one text, and errors as answers.

type scan struct{ b []byte }

func (s scan) whole() (api.Node, api.Errno) {
	if len(s.b) > 1<<20 {
		return api.Node{}, api.ErrLong
	}
	n, at, e := s.one(0, len(s.b), 1)
	if e == api.OK && at < len(s.b) {
		e = api.ErrTail
	}
	if e != api.OK {
		return api.Node{}, e
	}
	return n, api.OK
}

// one is the value from a place on, that lies ahead of an end, and the place behind it.
func (s scan) one(at, end, depth int) (api.Node, int, api.Errno) {
	if depth > 32 {
		return api.Node{}, 0, api.ErrDepth
	}
	if at == end {
		return api.Node{}, 0, api.ErrForm
	}
	tag := int(s.b[at])
	parts := slices.Contains(boxTags, tag)
	if !parts && !slices.Contains(plainTags, tag) {
		return api.Node{}, 0, api.ErrTag
	}
	at, size := s.size(at+1, end)
	if size < 0 || at+size > end {
		return api.Node{}, 0, api.ErrForm
	}
	if !parts {
		if !fits(tag, s.b[at:at+size]) {
			return api.Node{}, 0, api.ErrValue
		}
		return leaf(tag, s.b[at:at+size]...), at + size, api.OK
	}
	return s.parts(tag, at, at+size, depth)
}

func (s scan) parts(tag, at, end, depth int) (api.Node, int, api.Errno) {
	n := box(tag)
	last := -1
	wrong := false
	for at < end {
		kid, next, e := s.one(at, end, depth+1)
		if e != api.OK {
			return api.Node{}, 0, e
		}
		if last >= 0 && order.Less(s.b[at:next], s.b[last:at]) {
			wrong = true
		}
		n.Kids = append(n.Kids, kid)
		last, at = at, next
	}
	if wrong && tag == 49 {
		return api.Node{}, 0, api.ErrOrder
	}
	return n, at, api.OK
}

// size is where a content begins, and how long it is, or -1.
func (s scan) size(at, end int) (int, int) {
	if at == end {
		return 0, -1
	}
	first := s.b[at]
	rest := s.b[at+1 : end]
	switch {
	case first < 128:
		return at + 1, int(first)
	case first == 129 && len(rest) >= 1 && rest[0] >= 128:
		return at + 2, int(rest[0])
	case first == 130 && len(rest) >= 2 && rest[0] > 0:
		return at + 3, int(rest[0])*256 + int(rest[1])
	case first == 131 && len(rest) >= 3 && rest[0] > 0:
		return at + 4, int(rest[0])*65536 + int(rest[1])*256 + int(rest[2])
	}
	return 0, -1
}

// expectAsScanned fails unless Parse tells what the scan tells, and what follows from it holds.
func expectAsScanned(t *testing.T, b []byte) api.Errno {
	t.Helper()
	want, wrong := scan{b}.whole()
	got, e := Parse(b)
	if e != wrong || !Same(got, want) {
		t.Fatalf("Parse of %.80x: %s, %v, want %s, %v", b, brief(got), e, brief(want), wrong)
	}
	if e != api.OK {
		if !zero(got) {
			t.Fatalf("Parse of %.80x: %s beside %v", b, brief(got), e)
		}
		return e
	}
	back, e := Bytes(got)
	if !Fit(got) || e != api.OK || !bytes.Equal(back, b) {
		t.Fatalf("Bytes of Parse of %.80x: %.80x, %v", b, back, e)
	}
	return api.OK
}

func TestParseOfAllShortTexts(t *testing.T) {
	for _, b := range shortTexts() {
		expectAsScanned(t, b)
		for _, x := range []byte{0, 1, 5, 31, 49, 128, 129, 255} {
			expectAsScanned(t, append(bytes.Clone(b), x))
			expectAsScanned(t, slices.Concat([]byte{48, 2}, b, []byte{x}))
			expectAsScanned(t, slices.Concat([]byte{49, 3}, b, []byte{x}))
			expectAsScanned(t, slices.Concat([]byte{49, 6, 2, 1, x}, b, []byte{1}))
		}
	}
}

// drawn is a fit value, drawn by a dice.
func drawn(r *rand.Rand, depth int) api.Node {
	tag := []int{api.TagSeq, api.TagSet, api.TagBox + r.Intn(31), api.TagSeq, 0, 0, 0}[r.Intn(7)]
	if tag == 0 || depth == 32 {
		return drawnLeaf(r)
	}
	n := box(tag)
	for range r.Intn(4) {
		n.Kids = append(n.Kids, drawn(r, depth+1))
	}
	if tag == api.TagSet {
		slices.SortStableFunc(n.Kids, func(a, b api.Node) int {
			x, _ := Bytes(a)
			y, _ := Bytes(b)
			return bytes.Compare(x, y)
		})
	}
	return n
}

func drawnLeaf(r *rand.Rand) api.Node {
	for {
		tag := plainTags[r.Intn(len(plainTags))]
		if r.Intn(2) == 0 {
			tag = plainTags[r.Intn(8)]
		}
		b := make([]byte, r.Intn(4))
		if r.Intn(20) == 0 {
			b = make([]byte, 100+r.Intn(300))
		}
		r.Read(b)
		if tag == api.TagTime {
			b = []byte("20240229120000Z")
		}
		if n := leaf(tag, b...); Fit(n) {
			return n
		}
	}
}

// spoilt is a text with a few bytes changed, cut out or put in.
func spoilt(r *rand.Rand, b []byte) []byte {
	b = bytes.Clone(b)
	for range 1 + r.Intn(3) {
		at := r.Intn(len(b) + 1)
		switch r.Intn(5) {
		case 0:
			b = slices.Insert(b, at, []byte{0, 5, 31, 48, 49, 128, 129, 130, 255}[r.Intn(9)])
		case 1:
			b = slices.Delete(b, at, min(at+1+r.Intn(2), len(b)))
		case 2:
			b = b[:at]
		default:
			if at < len(b) {
				b[at] += []byte{1, 255, 128, byte(r.Intn(256))}[r.Intn(4)]
			}
		}
	}
	return b
}

func TestParseOfSpoiltTexts(t *testing.T) {
	r := rand.New(rand.NewSource(51))
	count := map[api.Errno]int{}
	for range 150000 {
		b, _ := Bytes(drawn(r, 1+r.Intn(3)))
		if r.Intn(10) == 0 && len(b) < 60 {
			b = wrapped([]int{api.TagSeq, api.TagBox}[r.Intn(2)], 28+r.Intn(5), b)
		}
		count[expectAsScanned(t, spoilt(r, b))]++
	}
	for _, e := range []api.Errno{api.OK, api.ErrForm, api.ErrTag, api.ErrDepth, api.ErrValue, api.ErrOrder, api.ErrTail} {
		if count[e] < 50 {
			t.Errorf("%v came %d times alone", e, count[e])
		}
	}
}

// P5.3

func TestThereAndBack(t *testing.T) {
	r := rand.New(rand.NewSource(52))
	values := someValues()
	for range 20000 {
		values = append(values, drawn(r, 1))
	}
	for _, n := range values {
		b := mustBytes(t, n)
		expectFit(t, n, b)
		expectAsScanned(t, b)
	}
}

// Unlike fit values have unlike bytes, as each is read from its own.
func TestUnlikeValuesHaveUnlikeBytes(t *testing.T) {
	r := rand.New(rand.NewSource(53))
	seen := map[string]api.Node{}
	for range 20000 {
		n := drawn(r, 1)
		b := string(mustBytes(t, n))
		if other, ok := seen[b]; ok && !Same(n, other) {
			t.Fatalf("%s and %s are both %x", brief(n), brief(other), b)
		}
		seen[b] = n
	}
}

// P5.4

func TestWhatIsCutOffIsNone(t *testing.T) {
	r := rand.New(rand.NewSource(54))
	values := someValues()
	for range 500 {
		values = append(values, drawn(r, 1))
	}
	for _, n := range values {
		b := mustBytes(t, n)
		for size := range b {
			expectWrong(t, b[:size], api.ErrForm) // the length goes beyond, wherever it is cut
		}
		for x := range 256 {
			expectWrong(t, append(bytes.Clone(b), byte(x)), api.ErrTail)
		}
	}
	b := mustBytes(t, sized(api.MaxDer))
	expectWrong(t, b[:len(b)-1], api.ErrForm)
}

// 0.5 and 0.7: nothing given is changed, nothing told is shared, what is empty is none.

func TestArgumentsAreNotChanged(t *testing.T) {
	for _, n := range someValues() {
		b := mustBytes(t, n)
		roomy := append(append(make([]byte, 0, len(b)+8), b...), 1, 2, 3, 4)
		kept := bytes.Clone(roomy)
		keptNode := copied(n)
		Parse(roomy[:len(b)])
		Parse(roomy)
		Bytes(n)
		Fit(n)
		Same(n, n)
		if !bytes.Equal(roomy, kept) || !Same(n, keptNode) {
			t.Fatalf("%s was changed", brief(keptNode))
		}
	}
	unordered := box(api.TagSet, leaf(api.TagInt, 2), leaf(api.TagInt, 1))
	Fit(unordered)
	Bytes(unordered)
	if unordered.Kids[0].Bytes[0] != 2 {
		t.Error("a set's parts were put in order")
	}
}

// spoilNode changes all that a value's bytes have room for, and gives up its parts.
func spoilNode(n api.Node) {
	full := n.Bytes[:cap(n.Bytes)]
	for i := range full {
		full[i] ^= 0x55
	}
	kids := n.Kids[:cap(n.Kids)]
	for i := range kids {
		spoilNode(kids[i])
		kids[i] = leaf(api.TagNull)
	}
}

func TestAnswersShareNoMemory(t *testing.T) {
	for _, n := range someValues() {
		b := mustBytes(t, n)
		kept, keptNode := bytes.Clone(b), copied(n)
		got, _ := Parse(b)
		for i := range b {
			b[i] ^= 0x55
		}
		if !Same(got, keptNode) {
			t.Fatalf("what Parse told of %x changed with it", kept)
		}
		again, _ := Parse(kept)
		spoilNode(again)
		if back, _ := Bytes(got); !bytes.Equal(back, kept) || !Same(n, keptNode) {
			t.Fatalf("two answers of %x share memory", kept)
		}
		out, _ := Bytes(n)
		full := out[:cap(out)]
		for i := range full {
			full[i] ^= 0x55
		}
		if !Same(n, keptNode) {
			t.Fatalf("Bytes of %s shares memory with it", brief(keptNode))
		}
	}
}

// Parts of one answer share nothing with each other.
func TestPartsShareNoMemory(t *testing.T) {
	n := box(api.TagSeq, leaf(api.TagBytes, 1, 2), box(api.TagSeq, leaf(api.TagBytes, 3)), leaf(api.TagBytes), leaf(api.TagBytes, 4), box(api.TagSet, leaf(api.TagBytes, 5)))
	text := mustBytes(t, n)
	for i := range n.Kids {
		got, _ := Parse(text)
		spoilNode(got.Kids[i])
		for j := range n.Kids {
			if j != i && !Same(got.Kids[j], n.Kids[j]) {
				t.Errorf("parts %d and %d share memory", i, j)
			}
		}
	}
}

func TestWhatIsEmptyIsNone(t *testing.T) {
	for _, b := range [][]byte{{5, 0}, {4, 0}, {48, 0}, {49, 0}, {128, 0}, {160, 0}, {12, 0}} {
		n, e := Parse(b)
		if e != api.OK || n.Tag != int(b[0]) || n.Bytes != nil || n.Kids != nil {
			t.Errorf("Parse of %x: %v, %v, %v", b, n.Bytes, n.Kids, e)
		}
	}
	n, _ := Parse([]byte{48, 3, 2, 1, 5})
	if n.Bytes != nil || n.Kids[0].Kids != nil {
		t.Error("what has parts has bytes, or what has bytes has parts")
	}
}
