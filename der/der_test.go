package der

import (
	"bytes"
	"encoding/asn1"
	"math"
	"math/big"
	"slices"
	"strings"
	"testing"
	"time"
	"unicode/utf16"

	"apostille/api"
)

// leaf is a value of bytes.
func leaf(tag int, b ...byte) api.Node {
	return api.Node{Tag: tag, Bytes: b}
}

// box is a value of parts.
func box(tag int, kids ...api.Node) api.Node {
	return api.Node{Tag: tag, Kids: kids}
}

// nested is a Null in so many boxes that it lies that deep.
func nested(tag, depth int) api.Node {
	n := leaf(api.TagNull)
	for range depth - 1 {
		n = box(tag, n)
	}
	return n
}

// sized is an octet string that is so many bytes in all, more than 2^16.
func sized(size int) api.Node {
	return api.Node{Tag: api.TagBytes, Bytes: make([]byte, size-5)}
}

// mustBytes is a fit value's bytes.
func mustBytes(t *testing.T, n api.Node) []byte {
	t.Helper()
	b, e := Bytes(n)
	if e != api.OK || !Fit(n) {
		t.Fatalf("not fit: %s", brief(n))
	}
	return b
}

// brief is a value as a text that is not too long to be read.
func brief(n api.Node) string {
	b := new(strings.Builder)
	tell(b, n)
	if b.Len() > 300 {
		return b.String()[:300] + "..."
	}
	return b.String()
}

func tell(b *strings.Builder, n api.Node) {
	if b.Len() > 300 {
		return
	}
	b.WriteString("(" + big.NewInt(int64(n.Tag)).String() + " " + big.NewInt(0).SetBytes(n.Bytes).Text(16))
	for _, k := range n.Kids {
		tell(b, k)
	}
	b.WriteString(")")
}

// zero tells whether a value is its zero value.
func zero(n api.Node) bool {
	return n.Tag == 0 && n.Bytes == nil && n.Kids == nil
}

// expectFit fails unless a value's bytes are those, and it is read from them.
func expectFit(t *testing.T, n api.Node, want []byte) {
	t.Helper()
	if !Fit(n) {
		t.Fatalf("%s is not fit", brief(n))
	}
	got, e := Bytes(n)
	if e != api.OK || !bytes.Equal(got, want) {
		t.Fatalf("Bytes of %s: %x, %v, want %x", brief(n), got, e, want)
	}
	back, e := Parse(want)
	if e != api.OK || !Same(back, n) {
		t.Fatalf("Parse of %x: %s, %v, want %s", want, brief(back), e, brief(n))
	}
}

// expectUnfit fails if a value is fit, or has bytes.
func expectUnfit(t *testing.T, n api.Node) {
	t.Helper()
	if Fit(n) {
		t.Fatalf("%s is fit", brief(n))
	}
	if b, e := Bytes(n); e != api.ErrForm || b != nil {
		t.Fatalf("Bytes of %s: %x, %v", brief(n), b, e)
	}
}

// expectWrong fails unless bytes are no value, for that reason.
func expectWrong(t *testing.T, b []byte, want api.Errno) {
	t.Helper()
	n, e := Parse(b)
	if e != want {
		t.Fatalf("Parse of %.80x: %v, want %v", b, e, want)
	}
	if !zero(n) {
		t.Fatalf("Parse of %.80x: %s beside %v", b, brief(n), e)
	}
}

func TestTheChaptersExamples(t *testing.T) {
	expectFit(t, leaf(api.TagInt, 5), []byte{2, 1, 5})
	expectWrong(t, []byte{2, 2, 0, 5}, api.ErrValue)
	expectWrong(t, []byte{2, 129, 1, 5}, api.ErrForm)
	expectWrong(t, []byte{5, 0, 0}, api.ErrTail)
	expectWrong(t, []byte{31, 0}, api.ErrTag)
}

// P5.1: Boxed, and which tags there are.

// The chapter's words on tags, number by number.
var (
	plainTags = []int{1, 2, 3, 4, 5, 6, 12, 24,
		128, 129, 130, 131, 132, 133, 134, 135, 136, 137, 138, 139, 140, 141, 142, 143,
		144, 145, 146, 147, 148, 149, 150, 151, 152, 153, 154, 155, 156, 157, 158}
	boxTags = []int{48, 49,
		160, 161, 162, 163, 164, 165, 166, 167, 168, 169, 170, 171, 172, 173, 174, 175,
		176, 177, 178, 179, 180, 181, 182, 183, 184, 185, 186, 187, 188, 189, 190}
	// What fits each tag of those that do not take any bytes.
	fitting = map[int][]byte{1: {255}, 2: {7}, 3: {0}, 5: nil, 6: {42}, 24: []byte("19700101000000Z")}
)

// allTags is all numbers about those that are tags, and far ones, some of which end in the same byte as a tag.
func allTags() []int {
	tags := []int{math.MinInt, math.MinInt32, 256 + 2, 256 + 48, 512 + 160, 1<<32 + 4, -256 + 5, 1<<62 + 49, math.MaxInt32, math.MaxInt}
	for tag := -300; tag <= 600; tag++ {
		tags = append(tags, tag)
	}
	return tags
}

func TestBoxedJustOfTagsThatHaveParts(t *testing.T) {
	for _, tag := range allTags() {
		if got := Boxed(tag); got != slices.Contains(boxTags, tag) {
			t.Errorf("Boxed(%d): %v", tag, got)
		}
	}
	if !Boxed(api.TagSeq) || !Boxed(api.TagSet) || !Boxed(api.TagBox) || Boxed(api.TagPart) || Boxed(api.TagBytes) {
		t.Error("Boxed of a named tag")
	}
}

func TestFitOfEachTag(t *testing.T) {
	for _, tag := range allTags() {
		switch {
		case slices.Contains(plainTags, tag):
			b := fitting[tag]
			expectFit(t, leaf(tag, b...), append([]byte{byte(tag), byte(len(b))}, b...))
			expectUnfit(t, api.Node{Tag: tag, Bytes: b, Kids: []api.Node{leaf(api.TagNull)}})
		case slices.Contains(boxTags, tag):
			expectFit(t, box(tag), []byte{byte(tag), 0})
			expectFit(t, box(tag, leaf(api.TagNull)), []byte{byte(tag), 2, 5, 0})
			expectUnfit(t, leaf(tag, 0))
			expectUnfit(t, leaf(tag, 5, 0))
			expectUnfit(t, api.Node{Tag: tag, Bytes: []byte{5, 0}, Kids: []api.Node{leaf(api.TagNull)}})
		default:
			expectUnfit(t, leaf(tag))
			expectUnfit(t, leaf(tag, 1))
			expectUnfit(t, box(tag, leaf(api.TagNull)))
			expectUnfit(t, box(api.TagSeq, leaf(tag)))
		}
	}
}

// What is empty is none, whether it is nil or not.
func TestFitOfEmptyLists(t *testing.T) {
	expectFit(t, api.Node{Tag: api.TagSeq, Bytes: []byte{}, Kids: []api.Node{}}, []byte{48, 0})
	expectFit(t, api.Node{Tag: api.TagNull, Bytes: []byte{}, Kids: []api.Node{}}, []byte{5, 0})
	expectUnfit(t, api.Node{})
}

// P5.1 and ErrValue of P5.2: which bytes fit a tag.

// expectFitting fails unless bytes fit a tag just if they should, alone and in something.
func expectFitting(t *testing.T, tag int, b []byte, should bool) {
	t.Helper()
	n := leaf(tag, b...)
	text := slices.Concat(head(tag, len(b)), b)
	if should {
		expectFit(t, n, text)
		return
	}
	expectUnfit(t, n)
	expectUnfit(t, box(api.TagSeq, n))
	expectWrong(t, text, api.ErrValue)
}

// shortTexts is all texts of up to two bytes.
func shortTexts() [][]byte {
	l := [][]byte{nil}
	for i := range 256 {
		l = append(l, []byte{byte(i)})
		for j := range 256 {
			l = append(l, []byte{byte(i), byte(j)})
		}
	}
	return l
}

func TestBool(t *testing.T) {
	for _, b := range shortTexts() {
		expectFitting(t, api.TagBool, b, len(b) == 1 && (b[0] == 0 || b[0] == 255))
	}
}

// By the library's shortest forms of numbers.
func TestInt(t *testing.T) {
	for _, b := range shortTexts() {
		expectFitting(t, api.TagInt, b, slices.Equal(b, shortestInt(t, b)))
	}
	for _, tail := range [][]byte{{0}, {127}, {128}, {255}, make([]byte, 40), bytes.Repeat([]byte{255}, 200)} {
		for _, ahead := range [][]byte{{0, 0}, {0, 127}, {0, 128}, {1, 0}, {127, 255}, {128, 0}, {254, 255}, {255, 0}, {255, 127}, {255, 128}, {255, 255}} {
			b := slices.Concat(ahead, tail)
			expectFitting(t, api.TagInt, b, slices.Equal(b, shortestInt(t, b)))
		}
	}
}

// shortestInt is the library's bytes of the number that bytes are by twos' complement.
func shortestInt(t *testing.T, b []byte) []byte {
	t.Helper()
	n := new(big.Int).SetBytes(b)
	if len(b) > 0 && b[0] >= 128 {
		n.Sub(n, new(big.Int).Lsh(big.NewInt(1), uint(8*len(b))))
	}
	text, err := asn1.Marshal(n)
	if err != nil {
		t.Fatal(err)
	}
	var raw asn1.RawValue
	if _, err := asn1.Unmarshal(text, &raw); err != nil {
		t.Fatal(err)
	}
	return raw.Bytes
}

func TestBits(t *testing.T) {
	for _, b := range shortTexts() {
		expectFitting(t, api.TagBits, b, bitsByBit(b))
	}
	for first := range 10 {
		for last := range 256 {
			b := []byte{byte(first), 255, 1, byte(last)}
			expectFitting(t, api.TagBits, b, bitsByBit(b))
		}
	}
}

// bitsByBit is the chapter's sentence on TagBits, one bit at a time.
func bitsByBit(b []byte) bool {
	if len(b) == 0 || b[0] > 7 || len(b) == 1 && b[0] != 0 {
		return false
	}
	for i := range b[0] {
		if b[len(b)-1]>>i&1 != 0 {
			return false
		}
	}
	return true
}

func TestNullAndOid(t *testing.T) {
	for _, b := range shortTexts() {
		expectFitting(t, api.TagNull, b, len(b) == 0)
	}
	for _, b := range [][]byte{nil, {128}, {128, 1, 1, 127, 0}, {42, 128}, {42, 128, 1}, {42, 134}, {0x90, 0x80, 0x80, 0x80, 0}, {42, 0x90, 0x80, 0x80, 0x80, 0}} {
		expectFitting(t, api.TagOid, b, false)
	}
	for _, b := range [][]byte{{0}, {39}, {40}, {79}, {80}, {127}, {42, 134, 72}, {0x8f, 0xff, 0xff, 0xff, 0x7f}, {42, 0x8f, 0xff, 0xff, 0xff, 0x7f}, {129, 0}} {
		expectFitting(t, api.TagOid, b, true)
	}
	expectFitting(t, api.TagOid, make([]byte, 19), true) // with the first, which is two, 20 numbers
	expectFitting(t, api.TagOid, make([]byte, 20), false)
	for _, size := range []int{1<<16 - 1, 1 << 16, 1<<16 + 1, 1 << 19} {
		expectFitting(t, api.TagOid, make([]byte, size), false)
		expectFitting(t, api.TagOid, append(bytes.Repeat([]byte{255}, size), 1), false)
	}
}

func TestOidByTheLibrary(t *testing.T) {
	for _, o := range []asn1.ObjectIdentifier{{0, 0}, {1, 39}, {2, 999, 3}, {1, 2, 840, 113549, 1, 7, 2}, {2, 16, 840, 1, 101, 3, 4, 2, 1}} {
		text, err := asn1.Marshal(o)
		if err != nil {
			t.Fatal(err)
		}
		expectFit(t, leaf(api.TagOid, text[2:]...), text)
	}
}

// utf8Once is UTF-8 told by its table, apart from the library: how many bytes a character has, 0 if none begins here.
func utf8Once(b []byte) int {
	at := func(i, low, high int) bool { return i < len(b) && int(b[i]) >= low && int(b[i]) <= high }
	switch {
	case at(0, 0, 0x7f):
		return 1
	case at(0, 0xc2, 0xdf) && at(1, 0x80, 0xbf):
		return 2
	case at(0, 0xe0, 0xe0) && at(1, 0xa0, 0xbf) && at(2, 0x80, 0xbf),
		at(0, 0xe1, 0xec) && at(1, 0x80, 0xbf) && at(2, 0x80, 0xbf),
		at(0, 0xed, 0xed) && at(1, 0x80, 0x9f) && at(2, 0x80, 0xbf),
		at(0, 0xee, 0xef) && at(1, 0x80, 0xbf) && at(2, 0x80, 0xbf):
		return 3
	case at(0, 0xf0, 0xf0) && at(1, 0x90, 0xbf) && at(2, 0x80, 0xbf) && at(3, 0x80, 0xbf),
		at(0, 0xf1, 0xf3) && at(1, 0x80, 0xbf) && at(2, 0x80, 0xbf) && at(3, 0x80, 0xbf),
		at(0, 0xf4, 0xf4) && at(1, 0x80, 0x8f) && at(2, 0x80, 0xbf) && at(3, 0x80, 0xbf):
		return 4
	}
	return 0
}

func utf8ByTable(b []byte) bool {
	for len(b) > 0 {
		size := utf8Once(b)
		if size == 0 {
			return false
		}
		b = b[size:]
	}
	return true
}

func TestUtf8(t *testing.T) {
	for _, b := range shortTexts() {
		expectFitting(t, api.TagUtf8, b, utf8ByTable(b))
	}
	edges := []byte{0, 0x7f, 0x80, 0x8f, 0x90, 0x9f, 0xa0, 0xbf, 0xc0, 0xc1, 0xc2, 0xdf, 0xe0, 0xec, 0xed, 0xee, 0xef, 0xf0, 0xf1, 0xf3, 0xf4, 0xf5, 0xff}
	for _, p := range edges {
		for _, q := range edges {
			for _, r := range edges {
				b := []byte{p, q, r}
				expectFitting(t, api.TagUtf8, b, utf8ByTable(b))
				for _, s := range edges {
					b := []byte{p, q, r, s}
					expectFitting(t, api.TagUtf8, b, utf8ByTable(b))
				}
			}
		}
	}
	for _, b := range []string{"", "plain", "a\x00b", "\u00e9\u20ac\U0001f600", "\ufffd", "\ufffe", "\U0010ffff", "\ud7ff\ue000"} {
		expectFitting(t, api.TagUtf8, []byte(b), true)
	}
	for _, b := range []string{"\xc0\x80", "\xe0\x80\xaf", "\xf0\x8f\xbf\xbf", "\xed\xa0\x80", "\xed\xbf\xbf", "\xed\xa0\x80\xed\xb0\x80", "\xf4\x90\x80\x80", "\xf8\x88\x80\x80\x80", "fine till here \xe2\x82"} {
		expectFitting(t, api.TagUtf8, []byte(b), false)
	}
}

// utf8Naive writes a number in as many bytes as its bits want, whether or not it is a character.
func utf8Naive(c int) []byte {
	tail := func(shift int) byte { return byte(0x80 | c>>shift&0x3f) }
	switch {
	case c < 0x80:
		return []byte{byte(c)}
	case c < 0x800:
		return []byte{byte(0xc0 | c>>6), tail(0)}
	case c < 0x10000:
		return []byte{byte(0xe0 | c>>12), tail(6), tail(0)}
	}
	return []byte{byte(0xf0 | c>>18), tail(12), tail(6), tail(0)}
}

func TestUtf8OfEachCharacter(t *testing.T) {
	for c := range 0x200000 {
		want := c <= 0x10ffff && !utf16.IsSurrogate(rune(c))
		if got := fits(api.TagUtf8, utf8Naive(c)); got != want {
			t.Fatalf("character %x: %v", c, got)
		}
	}
}

func TestTime(t *testing.T) {
	for _, s := range []string{"19700101000000Z", "00010101000000Z", "99991231235959Z", "20240229120000Z"} {
		expectFitting(t, api.TagTime, []byte(s), true)
	}
	for _, s := range []string{"", "Z", "20230229000000Z", "00000101000000Z", "19700101000060Z", "19700101240000Z", "19700101000000", "19700101000000z", "197001010000Z", "19700101000000.5Z", "19700101000000.0Z", "19700101000000+0000", " 19700101000000Z", "19700101000000ZZ", strings.Repeat("0", 1<<17)} {
		expectFitting(t, api.TagTime, []byte(s), false)
	}
	text, err := asn1.MarshalWithParams(time.Unix(1709208000, 0).UTC(), "generalized")
	if err != nil {
		t.Fatal(err)
	}
	expectFit(t, leaf(api.TagTime, []byte("20240229120000Z")...), text)
}

func TestAnyBytesFitTheOtherTags(t *testing.T) {
	for _, tag := range []int{api.TagBytes, api.TagPart, api.TagPart + 1, api.TagPart + 30} {
		for _, b := range shortTexts() {
			expectFitting(t, tag, b, true)
		}
	}
}

// P5.1: as bytes.

func TestLengths(t *testing.T) {
	for _, c := range []struct {
		size int
		head []byte
	}{
		{0, []byte{0}},
		{1, []byte{1}},
		{127, []byte{127}},
		{128, []byte{129, 128}},
		{129, []byte{129, 129}},
		{255, []byte{129, 255}},
		{256, []byte{130, 1, 0}},
		{257, []byte{130, 1, 1}},
		{65535, []byte{130, 255, 255}},
		{65536, []byte{131, 1, 0, 0}},
		{65537, []byte{131, 1, 0, 1}},
		{0x0abcde, []byte{131, 0x0a, 0xbc, 0xde}},
		{1<<20 - 5, []byte{131, 0x0f, 0xff, 0xfb}},
	} {
		b := bytes.Repeat([]byte{9}, c.size)
		want := slices.Concat([]byte{4}, c.head, b)
		expectFit(t, leaf(api.TagBytes, b...), want)
		if c.size > 1<<18 {
			continue
		}
		inner := slices.Concat(want, want)
		expectFit(t, box(api.TagSeq, leaf(api.TagBytes, b...), leaf(api.TagBytes, b...)), slices.Concat(head(api.TagSeq, len(inner)), inner))
	}
}

// By the library: of each length up to where another byte is needed, and around the next such place.
func TestLengthsByTheLibrary(t *testing.T) {
	sizes := []int{65533, 65534, 65535, 65536, 65537}
	for size := range 600 {
		sizes = append(sizes, size)
	}
	for _, size := range sizes {
		b := bytes.Repeat([]byte{1}, size)
		text, err := asn1.Marshal(b)
		if err != nil {
			t.Fatal(err)
		}
		expectFit(t, leaf(api.TagBytes, b...), text)
	}
}

func TestBytesOfParts(t *testing.T) {
	five, six := leaf(api.TagInt, 5), leaf(api.TagInt, 6)
	expectFit(t, box(api.TagSeq, six, five), []byte{48, 6, 2, 1, 6, 2, 1, 5})
	expectFit(t, box(api.TagBox+3, five), []byte{163, 3, 2, 1, 5})
	expectFit(t, box(api.TagSeq, box(api.TagSet, five, six), leaf(api.TagPart, 1)), []byte{48, 11, 49, 6, 2, 1, 5, 2, 1, 6, 128, 1, 1})
	expectFit(t, box(api.TagSeq, box(api.TagSeq), box(api.TagBox, box(api.TagSet))), []byte{48, 6, 48, 0, 160, 2, 49, 0})
	expectUnfit(t, box(api.TagSeq, five, leaf(api.TagInt)))
	expectUnfit(t, box(api.TagBox, box(api.TagSeq, leaf(api.TagBool, 1)), five))
}

func TestBytesByTheLibrary(t *testing.T) {
	type inner struct {
		A int
		B []byte
	}
	text, err := asn1.Marshal(struct {
		N   int
		On  bool
		In  inner
		Set []int `asn1:"set"`
		Tag int   `asn1:"tag:3"`
		Box int   `asn1:"explicit,tag:4"`
		S   string
		Bit asn1.BitString
	}{-129, true, inner{70000, make([]byte, 300)}, []int{3, 1, 2, 300}, 9, 10, "\u00e9", asn1.BitString{Bytes: []byte{0xa0}, BitLength: 3}})
	if err != nil {
		t.Fatal(err)
	}
	expectFit(t, box(api.TagSeq,
		leaf(api.TagInt, 0xff, 0x7f),
		leaf(api.TagBool, 255),
		box(api.TagSeq, leaf(api.TagInt, 1, 0x11, 0x70), leaf(api.TagBytes, make([]byte, 300)...)),
		box(api.TagSet, leaf(api.TagInt, 1), leaf(api.TagInt, 2), leaf(api.TagInt, 3), leaf(api.TagInt, 1, 44)),
		leaf(api.TagPart+3, 9),
		box(api.TagBox+4, leaf(api.TagInt, 10)),
		leaf(api.TagUtf8, []byte("\u00e9")...),
		leaf(api.TagBits, 5, 0xa0)), text)
}

func TestSetsAreInOrder(t *testing.T) {
	one, two, long, null := leaf(api.TagInt, 1), leaf(api.TagInt, 2), leaf(api.TagInt, 1, 0), leaf(api.TagNull)
	expectFit(t, box(api.TagSet), []byte{49, 0})
	expectFit(t, box(api.TagSet, two), []byte{49, 3, 2, 1, 2})
	expectFit(t, box(api.TagSet, one, two), []byte{49, 6, 2, 1, 1, 2, 1, 2})
	expectFit(t, box(api.TagSet, one, one), []byte{49, 6, 2, 1, 1, 2, 1, 1}) // sorted, though not strictly
	expectFit(t, box(api.TagSet, one, two, long, null), []byte{49, 12, 2, 1, 1, 2, 1, 2, 2, 2, 1, 0, 5, 0})
	for _, kids := range [][]api.Node{{two, one}, {one, two, one}, {long, two}, {null, one}, {two, one, two}, {leaf(api.TagBytes, 128), leaf(api.TagBytes, 127)}, {box(api.TagSeq, two), box(api.TagSeq, one)}} {
		expectUnfit(t, box(api.TagSet, kids...))
		expectUnfit(t, box(api.TagSeq, null, box(api.TagSet, kids...)))
		text := mustBytes(t, box(api.TagSeq, kids...))
		text[0] = api.TagSet
		expectWrong(t, text, api.ErrOrder)
		expectWrong(t, append(text, 0), api.ErrOrder)
		mustBytes(t, box(api.TagSeq, kids...))
		mustBytes(t, box(api.TagBox, kids...))
	}
}

func TestDepth(t *testing.T) {
	for _, tag := range []int{api.TagSeq, api.TagSet, api.TagBox, api.TagBox + 30} {
		for depth := 1; depth <= 32; depth++ {
			n := nested(tag, depth)
			expectFit(t, n, mustBytes(t, n))
		}
		expectUnfit(t, nested(tag, 33))
		expectUnfit(t, nested(tag, 34))
		expectUnfit(t, nested(tag, 70))
		expectUnfit(t, nested(tag, 1<<16))
		expectWrong(t, wrapped(tag, 32, []byte{5, 0}), api.ErrDepth)
	}
	// The deepest may have no part at all, and stand behind others.
	deep := box(api.TagSeq)
	for range 31 {
		deep = box(api.TagSeq, leaf(api.TagInt, 1), deep, leaf(api.TagNull))
	}
	expectFit(t, deep, mustBytes(t, deep))
	expectUnfit(t, box(api.TagSeq, leaf(api.TagInt, 1), deep))
}

// wrapped is bytes in so many boxes, each of which is less than 128 bytes.
func wrapped(tag, boxes int, b []byte) []byte {
	for range boxes {
		b = slices.Concat([]byte{byte(tag), byte(len(b))}, b)
	}
	return b
}

func TestGreatestSize(t *testing.T) {
	n := sized(api.MaxDer)
	b := mustBytes(t, n)
	if len(b) != api.MaxDer {
		t.Fatalf("%d bytes", len(b))
	}
	expectFit(t, n, b)
	expectUnfit(t, sized(api.MaxDer+1))
	expectUnfit(t, sized(api.MaxDer+6))
	expectUnfit(t, sized(api.MaxDer*4))
	whole := box(api.TagSeq, leaf(api.TagNull), sized(api.MaxDer-7))
	if b := mustBytes(t, whole); len(b) != api.MaxDer {
		t.Fatalf("%d bytes", len(b))
	}
	expectUnfit(t, box(api.TagSeq, leaf(api.TagNull), sized(api.MaxDer-6)))
	expectUnfit(t, box(api.TagSeq, sized(api.MaxDer)))
	expectUnfit(t, box(api.TagSeq, sized(api.MaxDer/2), sized(api.MaxDer/2)))
}

func TestGreatestNumberOfParts(t *testing.T) {
	for _, tag := range []int{api.TagSeq, api.TagSet} {
		kids := make([]api.Node, (api.MaxDer-5)/2)
		for i := range kids {
			kids[i] = leaf(api.TagNull)
		}
		n := box(tag, kids...)
		b := mustBytes(t, n)
		if len(b) != api.MaxDer-1 {
			t.Fatalf("%d bytes", len(b))
		}
		expectFit(t, n, b)
		expectUnfit(t, box(tag, append(kids, leaf(api.TagNull))...))
	}
}

// The longer lengths of parts count as well.
func TestSizeCountsEachLength(t *testing.T) {
	const parts = 8004
	part := api.Node{Tag: api.TagBytes, Bytes: make([]byte, 128)} // 131 bytes
	kids := slices.Repeat([]api.Node{part}, parts)
	rest := make([]byte, api.MaxDer-5-131*parts-2)
	b := mustBytes(t, box(api.TagSeq, append(kids, leaf(api.TagBytes, rest...))...))
	if len(b) != api.MaxDer {
		t.Fatalf("%d bytes", len(b))
	}
	expectUnfit(t, box(api.TagSeq, append(kids, leaf(api.TagBytes, append(rest, 0)...))...))
}

// Parts that share memory are more than could be gone through, or never end.
func TestPartsThatShareMemoryEnd(t *testing.T) {
	n := leaf(api.TagNull)
	for range 31 {
		n = box(api.TagSeq, n, n, n, n)
	}
	expectUnfit(t, n)
	ring := box(api.TagSeq, api.Node{}, api.Node{}, api.Node{})
	for i := range ring.Kids {
		ring.Kids[i] = ring
	}
	if Fit(ring) {
		t.Error("what lies in itself is fit")
	}
	if _, e := Bytes(ring); e != api.ErrForm {
		t.Errorf("Bytes of what lies in itself: %v", e)
	}
}

// P5.1: Same.

func TestSame(t *testing.T) {
	values := []api.Node{
		{},
		leaf(api.TagNull),
		leaf(api.TagInt, 1),
		leaf(api.TagInt, 2),
		leaf(api.TagInt, 1, 2),
		leaf(api.TagBytes, 1),
		leaf(-1, 1),
		leaf(api.TagInt+256, 1),
		box(api.TagSeq),
		box(api.TagSet),
		box(api.TagSeq, leaf(api.TagInt, 1)),
		box(api.TagSeq, leaf(api.TagInt, 2)),
		box(api.TagSeq, leaf(api.TagInt, 1), leaf(api.TagInt, 2)),
		box(api.TagSeq, leaf(api.TagInt, 2), leaf(api.TagInt, 1)),
		box(api.TagSeq, leaf(api.TagInt, 1), leaf(api.TagInt, 1)),
		box(api.TagSeq, box(api.TagSeq, leaf(api.TagInt, 1))),
		box(api.TagSeq, box(api.TagSeq, leaf(api.TagInt, 1)), leaf(api.TagNull)),
		box(api.TagSeq, box(api.TagSeq, leaf(api.TagInt, 1), leaf(api.TagNull))),
		{Tag: api.TagSeq, Bytes: []byte{1}, Kids: []api.Node{leaf(api.TagInt, 1)}},
		{Tag: api.TagSeq, Bytes: []byte{2}, Kids: []api.Node{leaf(api.TagInt, 1)}},
		{Tag: api.TagInt, Bytes: []byte{1}, Kids: []api.Node{{}}},
		nested(api.TagSeq, 40),
		nested(api.TagSeq, 41),
		nested(api.TagSeq, 1<<16),
	}
	for i, a := range values {
		for j, b := range values {
			if got := Same(a, copied(b)); got != (i == j) {
				t.Errorf("Same of values %d and %d: %v", i, j, got)
			}
		}
	}
	if !Same(api.Node{Tag: 4, Bytes: []byte{}}, api.Node{Tag: 4}) || !Same(api.Node{Tag: 48}, api.Node{Tag: 48, Kids: []api.Node{}}) {
		t.Error("what is empty is none")
	}
}

// copied is a value in memory of its own.
func copied(n api.Node) api.Node {
	out := api.Node{Tag: n.Tag, Bytes: bytes.Clone(n.Bytes)}
	for _, k := range n.Kids {
		out.Kids = append(out.Kids, copied(k))
	}
	return out
}
