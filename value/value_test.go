package value

import (
	"bytes"
	"encoding/asn1"
	"math"
	"math/big"
	"slices"
	"strings"
	"testing"
	"time"

	"apostille/api"
	"apostille/der"
)

// raw is a value as it is written down, fit or not.
func raw(tag int, b []byte, kids ...api.Node) api.Node {
	return api.Node{Tag: tag, Bytes: b, Kids: kids}
}

// brief is a value as a text that is not too long to be read.
func brief(n api.Node) string {
	b := new(strings.Builder)
	tell(b, n)
	if b.Len() > 300 {
		return b.String()[:300] + "..."
	}
	return b.String()
}

func tell(b *strings.Builder, n api.Node) {
	if b.Len() > 300 {
		return
	}
	b.WriteString("(" + big.NewInt(int64(n.Tag)).String() + " " + big.NewInt(0).SetBytes(n.Bytes).Text(16))
	for _, k := range n.Kids {
		tell(b, k)
	}
	b.WriteString(")")
}

// zero tells whether a value is its zero value.
func zero(n api.Node) bool {
	return n.Tag == 0 && n.Bytes == nil && n.Kids == nil
}

// made hands on a value that was made without an error.
func made(t *testing.T) func(api.Node, api.Errno) api.Node {
	return func(n api.Node, e api.Errno) api.Node {
		t.Helper()
		if e != api.OK {
			t.Fatalf("%v beside %s", e, brief(n))
		}
		return n
	}
}

// refused fails unless that error was told, and nothing beside it.
func refused(t *testing.T, want api.Errno) func(api.Node, api.Errno) {
	return func(n api.Node, e api.Errno) {
		t.Helper()
		if e != want || !zero(n) {
			t.Fatalf("%s, %v, want %v", brief(n), e, want)
		}
	}
}

// expectSame fails unless two values are the same, and what is empty is none.
func expectSame(t *testing.T, got, want api.Node) {
	t.Helper()
	if !der.Same(got, want) {
		t.Fatalf("%s, want %s", brief(got), brief(want))
	}
	expectNoEmpty(t, got)
}

// expectNoEmpty fails if a list that is empty is not none.
func expectNoEmpty(t *testing.T, n api.Node) {
	t.Helper()
	if n.Bytes != nil && len(n.Bytes) == 0 || n.Kids != nil && len(n.Kids) == 0 {
		t.Fatalf("an empty list that is not none: %s", brief(n))
	}
	for _, k := range n.Kids {
		expectNoEmpty(t, k)
	}
}

// expectText fails unless a value's bytes are those.
func expectText(t *testing.T, n api.Node, want []byte) {
	t.Helper()
	got, e := der.Bytes(n)
	if e != api.OK || !bytes.Equal(got, want) {
		t.Fatalf("%s as bytes: %x, %v, want %x", brief(n), got, e, want)
	}
}

// library is what the library's DER writes of something.
func library(t *testing.T, x any, params string) []byte {
	t.Helper()
	text, err := asn1.MarshalWithParams(x, params)
	if err != nil {
		t.Fatal(err)
	}
	return text
}

func TestTheChaptersExamples(t *testing.T) {
	expectSame(t, Int(128), raw(api.TagInt, []byte{0, 128}))
	expectSame(t, Int(-1), raw(api.TagInt, []byte{255}))
	if n, e := IntOf(Null()); n != 0 || e != api.ErrTag {
		t.Errorf("IntOf of a Null: %d, %v", n, e)
	}
	expectSame(t, made(t)(Set(Int(2), Int(1))), raw(api.TagSet, nil, Int(1), Int(2)))
}

// P6.1: Int.

// numbers is those about each place where a bit or a byte more is needed, of either sign.
func numbers() []int64 {
	l := []int64{math.MinInt64, math.MinInt64 + 1, math.MaxInt64, math.MaxInt64 - 1}
	for shift := range 63 {
		for near := int64(-2); near <= 2; near++ {
			l = append(l, 1<<shift+near, -1<<shift+near)
		}
	}
	for n := int64(-70000); n <= 70000; n += 7 {
		l = append(l, n)
	}
	for n := int64(-300); n <= 300; n++ {
		l = append(l, n)
	}
	return l
}

func TestIntByTheLibrary(t *testing.T) {
	for _, n := range numbers() {
		v := Int(n)
		expectText(t, v, library(t, n, ""))
		expectNoEmpty(t, v)
		if v.Tag != api.TagInt || v.Kids != nil {
			t.Fatalf("Int(%d): %s", n, brief(v))
		}
	}
}

func TestIntIsAsFewBytesAsDo(t *testing.T) {
	for _, c := range []struct {
		n    int64
		want []byte
	}{
		{0, []byte{0}},
		{1, []byte{1}},
		{127, []byte{127}},
		{128, []byte{0, 128}},
		{255, []byte{0, 255}},
		{256, []byte{1, 0}},
		{32767, []byte{127, 255}},
		{32768, []byte{0, 128, 0}},
		{-1, []byte{255}},
		{-128, []byte{128}},
		{-129, []byte{255, 127}},
		{-256, []byte{255, 0}},
		{-257, []byte{254, 255}},
		{-32768, []byte{128, 0}},
		{-32769, []byte{255, 127, 255}},
		{1<<55 - 1, []byte{127, 255, 255, 255, 255, 255, 255}},
		{1 << 55, []byte{0, 128, 0, 0, 0, 0, 0, 0}},
		{-1 << 55, []byte{128, 0, 0, 0, 0, 0, 0}},
		{-1<<55 - 1, []byte{255, 127, 255, 255, 255, 255, 255, 255}},
		{math.MaxInt64, []byte{127, 255, 255, 255, 255, 255, 255, 255}},
		{math.MinInt64, []byte{128, 0, 0, 0, 0, 0, 0, 0}},
	} {
		expectSame(t, Int(c.n), raw(api.TagInt, c.want))
	}
}

// P6.2: Bytes, Utf8, Id, Time, Null.

// texts is some of each length about which a value's length is written otherwise.
func texts() [][]byte {
	l := [][]byte{nil, {}, {0}, {255}, {5, 0}, []byte("abc")}
	for _, size := range []int{127, 128, 255, 256, 65535, 65536} {
		l = append(l, bytes.Repeat([]byte{7}, size))
	}
	return l
}

func TestBytes(t *testing.T) {
	for _, b := range texts() {
		v := Bytes(b)
		expectSame(t, v, raw(api.TagBytes, b))
		expectText(t, v, library(t, b, ""))
	}
}

func TestUtf8(t *testing.T) {
	for _, s := range goodUtf8() {
		v := made(t)(Utf8(s))
		expectSame(t, v, raw(api.TagUtf8, []byte(s)))
		expectText(t, v, library(t, s, "utf8"))
	}
	for _, s := range badUtf8() {
		refused(t, api.ErrValue)(Utf8(s))
	}
}

func goodUtf8() []string {
	return []string{"", "a", "plain", "a\x00b", "\x7f", "\u0080", "\u07ff", "\u0800", "\ud7ff\ue000", "\ufffd\ufffe\uffff", "\U00010000", "\U0010ffff", "\u00e9\u20ac\U0001f600", strings.Repeat("x", 1<<16), strings.Repeat("\u00e9", 1<<15)}
}

// badUtf8 is longer forms, halves of pairs, what is beyond the last character, and what is cut off.
func badUtf8() []string {
	return []string{"\x80", "\xbf", "\xc0\x80", "\xc1\xbf", "\xe0\x80\xaf", "\xe0\x9f\xbf", "\xf0\x8f\xbf\xbf", "\xed\xa0\x80", "\xed\xbf\xbf", "\xed\xa0\x80\xed\xb0\x80", "\xf4\x90\x80\x80", "\xf5\x80\x80\x80", "\xf8\x88\x80\x80\x80", "\xff", "\xc3", "fine till here \xe2\x82", "\xe2\x82x", strings.Repeat("x", 1<<16-1) + "\x80"}
}

func TestId(t *testing.T) {
	for _, o := range goodOids() {
		v := made(t)(Id(o))
		expectNoEmpty(t, v)
		// The library's numbers are ints, and all of these fit.
		of := make(asn1.ObjectIdentifier, len(o))
		for i, n := range o {
			of[i] = int(n)
		}
		expectText(t, v, library(t, of, ""))
	}
	expectSame(t, made(t)(Id(api.Oid{1, 2, 840})), raw(api.TagOid, []byte{42, 134, 72}))
	for _, o := range []api.Oid{nil, {}, {1}, {2}, {0, 40}, {1, 40}, {3, 0}, {3, 1, 1}, {2, math.MaxUint32}, {2, 1<<32 - 80}, make(api.Oid, 21), make(api.Oid, 1<<16)} {
		refused(t, api.ErrValue)(Id(o))
	}
}

func goodOids() []api.Oid {
	return []api.Oid{{0, 0}, {0, 39}, {1, 0}, {1, 39}, {2, 0}, {2, 47}, {2, 48}, {2, 999, 3}, {1, 2, 840}, {1, 2, 840, 113549, 1, 7, 2}, {2, 1<<31 - 1 - 80, 1<<31 - 1}, make(api.Oid, 20)}
}

// The greatest numbers are more than the library takes.
func TestIdOfTheGreatestNumbers(t *testing.T) {
	expectSame(t, made(t)(Id(api.Oid{2, 1<<32 - 81, 1<<32 - 1})), raw(api.TagOid, []byte{0x8f, 0xff, 0xff, 0xff, 0x7f, 0x8f, 0xff, 0xff, 0xff, 0x7f}))
}

const (
	firstTime = -62135596800
	lastTime  = 253402300799
)

func times() []int64 {
	return []int64{0, 1, -1, 59, 60, 86399, 86400, 1709208000, 4102444800, firstTime, firstTime + 1, lastTime - 1, lastTime}
}

func TestTime(t *testing.T) {
	for _, at := range times() {
		v := made(t)(Time(at))
		expectSame(t, v, raw(api.TagTime, []byte(time.Unix(at, 0).UTC().Format("20060102150405Z"))))
		expectText(t, v, library(t, time.Unix(at, 0).UTC(), "generalized"))
	}
	for _, at := range []int64{firstTime - 1, lastTime + 1, math.MinInt64, math.MaxInt64} {
		refused(t, api.ErrValue)(Time(at))
	}
}

func TestNull(t *testing.T) {
	expectSame(t, Null(), raw(api.TagNull, nil))
	expectText(t, Null(), []byte{5, 0})
}

// P6.3: Seq, Set, Part, Box.

// odd is values that are not fit, each for another reason.
func odd() []api.Node {
	return []api.Node{
		{},
		raw(-1, nil),
		raw(31, nil),
		raw(191, nil, Null()),
		raw(api.TagInt, nil),
		raw(api.TagInt, []byte{0, 5}),
		raw(api.TagBool, []byte{1}),
		raw(api.TagNull, []byte{0}),
		raw(api.TagBytes, []byte{1}, Null()),
		raw(api.TagSeq, []byte{5, 0}),
		raw(api.TagSeq, nil, raw(api.TagInt, nil)),
		raw(api.TagSet, nil, Int(2), Int(1)),
		raw(api.TagBytes, make([]byte, api.MaxDer-4)),
		nested(33),
		nested(1 << 16),
	}
}

// nested is a Null in so many boxes that it lies that deep.
func nested(depth int) api.Node {
	n := raw(api.TagNull, nil)
	for range depth - 1 {
		n = raw(api.TagSeq, nil, n)
	}
	return n
}

// some is fit values of all kinds.
func some() []api.Node {
	return []api.Node{
		raw(api.TagNull, nil),
		raw(api.TagNull, []byte{}),
		raw(api.TagBool, []byte{255}),
		raw(api.TagInt, []byte{5}),
		raw(api.TagInt, []byte{1, 0}),
		raw(api.TagInt, []byte{128}),
		raw(api.TagBits, []byte{3, 8}),
		raw(api.TagBytes, nil),
		raw(api.TagBytes, []byte{1, 2, 3}),
		raw(api.TagBytes, bytes.Repeat([]byte{1}, 200)),
		raw(api.TagOid, []byte{42, 134, 72}),
		raw(api.TagUtf8, []byte("\u00e9")),
		raw(api.TagTime, []byte("19700101000000Z")),
		raw(api.TagPart+30, []byte{9}),
		raw(api.TagSeq, nil),
		raw(api.TagSeq, nil, raw(api.TagInt, []byte{6}), raw(api.TagInt, []byte{5})),
		raw(api.TagSet, nil, raw(api.TagInt, []byte{5}), raw(api.TagInt, []byte{6})),
		raw(api.TagBox+30, nil, raw(api.TagSeq, nil, raw(api.TagBytes, []byte{4}))),
		nested(31),
	}
}

// lists is of none, one, many, of what is fit and what is not.
func lists() [][]api.Node {
	many := make([]api.Node, 1<<16)
	for i := range many {
		many[i] = raw(api.TagInt, []byte{byte(i)})
	}
	l := [][]api.Node{nil, {}, some(), odd(), append(some(), odd()...), many}
	for _, n := range append(some(), odd()...) {
		l = append(l, []api.Node{n}, []api.Node{n, n})
	}
	return l
}

func TestSeqAndBoxAreOfAnyValues(t *testing.T) {
	for _, l := range lists() {
		expectSame(t, Seq(l...), raw(api.TagSeq, nil, l...))
		expectSame(t, made(t)(Box(3, l...)), raw(api.TagBox+3, nil, l...))
	}
	expectSame(t, Seq(), raw(api.TagSeq, nil))
	expectText(t, Seq(Int(2), Null(), Int(1)), []byte{48, 8, 2, 1, 2, 5, 0, 2, 1, 1})
	expectText(t, made(t)(Box(0)), []byte{160, 0})
	expectText(t, made(t)(Box(4, Int(2), Int(1))), []byte{164, 6, 2, 1, 2, 2, 1, 1})
}

// wrongNumbers is those about 0 to 30, those whose tag would be one of another kind, and those whose tag would wrap round.
func wrongNumbers() []int {
	return []int{-1, 31, 32, -32, 48 - 128, 48 - 160, 4 - 128, 49 - 160, 128 - 160, 256, math.MinInt, math.MaxInt, math.MinInt32, math.MaxInt32}
}

func TestPartAndBoxOfEachNumber(t *testing.T) {
	for k := range 31 {
		for _, b := range texts() {
			expectSame(t, made(t)(Part(k, b)), raw(128+k, b))
		}
		expectSame(t, made(t)(Box(k, Int(2), Int(1))), raw(160+k, nil, Int(2), Int(1)))
		expectText(t, made(t)(Part(k, []byte{9})), []byte{byte(128 + k), 1, 9})
		expectText(t, made(t)(Box(k, Null())), []byte{byte(160 + k), 2, 5, 0})
	}
	for _, k := range wrongNumbers() {
		refused(t, api.ErrRange)(Part(k, nil))
		refused(t, api.ErrRange)(Part(k, []byte{1}))
		refused(t, api.ErrRange)(Box(k))
		refused(t, api.ErrRange)(Box(k, Null()))
		refused(t, api.ErrRange)(Box(k, odd()...))
	}
}

func TestSetIsInTheOrderOfBytes(t *testing.T) {
	expectSame(t, made(t)(Set()), raw(api.TagSet, nil))
	// A shorter length is ahead, whatever is behind it; so is a lesser tag.
	want := []api.Node{Int(0), Int(127), Int(-1), Int(128), Int(-129), Bytes(nil), Bytes([]byte{0}), Null()}
	for i := range want {
		for j := range want {
			l := slices.Clone(want)
			l[i], l[j] = l[j], l[i]
			expectSame(t, made(t)(Set(l...)), raw(api.TagSet, nil, want...))
		}
	}
	l := slices.Clone(want)
	slices.Reverse(l)
	expectSame(t, made(t)(Set(l...)), raw(api.TagSet, nil, want...))
	text := made(t)(Set(Int(3), Int(1), Int(300), Int(2)))
	expectText(t, text, library(t, []int{3, 1, 300, 2}, "set"))
}

func TestSetHasEachAsOften(t *testing.T) {
	expectSame(t, made(t)(Set(Int(1), Int(1))), raw(api.TagSet, nil, Int(1), Int(1)))
	expectSame(t, made(t)(Set(Int(2), Int(1), Int(2), Int(1), Int(2))), raw(api.TagSet, nil, Int(1), Int(1), Int(2), Int(2), Int(2)))
}

// The order is that of bytes as they are: neither of numbers, nor of lengths alone, nor of parts.
func TestSetOfPartsIsInTheOrderOfTheirBytes(t *testing.T) {
	a := Seq(Int(1), Int(9)) // 48, 6, 2, 1, 1, ..
	b := Seq(Int(2), Int(0)) // 48, 6, 2, 1, 2, ..
	c := Seq(Int(300))       // 48, 4, ..
	d := Seq(Null())         // 48, 2, ..
	e := Bytes(make([]byte, 300))
	expectSame(t, made(t)(Set(b, a, c, d, e)), raw(api.TagSet, nil, e, d, c, a, b))
	long, short := Bytes(make([]byte, 128)), Bytes(bytes.Repeat([]byte{255}, 127))
	expectSame(t, made(t)(Set(long, short)), raw(api.TagSet, nil, short, long))
}

func TestSetOfWhatIsNotFit(t *testing.T) {
	for _, n := range odd() {
		refused(t, api.ErrForm)(Set(n))
		refused(t, api.ErrForm)(Set(Int(1), n))
		refused(t, api.ErrForm)(Set(n, Int(1)))
		refused(t, api.ErrForm)(Set(Int(1), n, Int(2), n))
		refused(t, api.ErrForm)(Set(append(some(), n)...))
	}
	refused(t, api.ErrForm)(Set(odd()...))
}

// What is fit is taken, though the set is too deep or too long then.
func TestSetThatIsNotFit(t *testing.T) {
	deep := nested(api.MaxDepth)
	long := raw(api.TagBytes, make([]byte, api.MaxDer-5))
	for _, n := range []api.Node{deep, long} {
		set := made(t)(Set(Null(), n))
		if der.Fit(set) {
			t.Errorf("fit: %s", brief(set))
		}
		if len(set.Kids) != 2 || !slices.ContainsFunc(set.Kids, func(k api.Node) bool { return der.Same(k, n) }) {
			t.Errorf("not these: %s", brief(set))
		}
	}
}

func TestSetOfMany(t *testing.T) {
	l := make([]api.Node, 1<<14)
	for i := range l {
		l[i] = Int(int64(i * 7919 % len(l)))
	}
	set := made(t)(Set(l...))
	if len(set.Kids) != len(l) || !der.Fit(set) {
		t.Fatalf("%d parts, fit: %v", len(set.Kids), der.Fit(set))
	}
	for i, k := range set.Kids {
		if !der.Same(k, Int(int64(i))) {
			t.Fatalf("part %d: %s", i, brief(k))
		}
	}
}
