package value

import (
	"bytes"
	"math"
	"math/big"
	"slices"
	"testing"

	"apostille/api"
	"apostille/der"
	"apostille/oid"
)

// asked is what each function that asks tells of a value: the error, and whether what is beside it is none.
func asked(n api.Node) map[int]func() (api.Errno, bool) {
	return map[int]func() (api.Errno, bool){
		api.TagInt:   func() (api.Errno, bool) { x, e := IntOf(n); return e, x == 0 },
		api.TagBytes: func() (api.Errno, bool) { x, e := BytesOf(n); return e, x == nil },
		api.TagUtf8:  func() (api.Errno, bool) { x, e := Utf8Of(n); return e, x == "" },
		api.TagOid:   func() (api.Errno, bool) { x, e := IdOf(n); return e, x == nil },
		api.TagTime:  func() (api.Errno, bool) { x, e := TimeOf(n); return e, x == 0 },
	}
}

// expectAsked fails unless the function of a tag tells that error of a value, and nothing beside it.
func expectAsked(t *testing.T, tag int, n api.Node, want api.Errno) {
	t.Helper()
	e, none := asked(n)[tag]()
	if e != want || !none {
		t.Fatalf("asked for tag %d, %s: %v, none beside it: %v, want %v", tag, brief(n), e, none, want)
	}
}

// fitting is some bytes that fit each tag that can be asked.
func fitting() map[int][]byte {
	return map[int][]byte{
		api.TagInt:   {7},
		api.TagBytes: {7},
		api.TagUtf8:  {7},
		api.TagOid:   {42},
		api.TagTime:  []byte("20240229120000Z"),
	}
}

// allTags is all numbers about those that are tags, and far ones, some of which end in the same byte as a tag.
func allTags() []int {
	tags := []int{math.MinInt, math.MinInt32, 512 + 160, 1<<32 + 4, -256 + 5, 1<<62 + 49, math.MaxInt32, math.MaxInt}
	for tag := -300; tag <= 600; tag++ {
		tags = append(tags, tag)
	}
	return tags
}

// P6.1 and P6.2: ErrTag of another tag, ahead of what else is wrong.
func TestAskedOfAnotherTag(t *testing.T) {
	for tag, b := range fitting() {
		for _, other := range allTags() {
			if other == tag {
				continue
			}
			expectAsked(t, tag, raw(other, b), api.ErrTag)
			expectAsked(t, tag, raw(other, nil), api.ErrTag)
			expectAsked(t, tag, raw(other, b, Null()), api.ErrTag)
			expectAsked(t, tag, raw(other, []byte{0, 0, 255}), api.ErrTag)
			expectAsked(t, tag, raw(other, bytes.Repeat([]byte{1}, 9)), api.ErrTag)
		}
	}
	for tag := range fitting() {
		expectAsked(t, tag, api.Node{}, api.ErrTag)
		expectAsked(t, tag, nested(1<<16), api.ErrTag)
	}
}

// P6.1 and P6.2: ErrValue of what has Kids, whatever they are; an empty list of them is none.
func TestAskedOfWhatHasKids(t *testing.T) {
	for tag, b := range fitting() {
		for _, kid := range append(some(), odd()...) {
			expectAsked(t, tag, raw(tag, b, kid), api.ErrValue)
			expectAsked(t, tag, raw(tag, nil, kid), api.ErrValue)
			expectAsked(t, tag, raw(tag, bytes.Repeat([]byte{1}, 9), kid), api.ErrValue)
		}
		n := api.Node{Tag: tag, Bytes: b, Kids: []api.Node{}}
		if e, none := asked(n)[tag](); e != api.OK || none {
			t.Errorf("asked for tag %d, no Kids: %v", tag, e)
		}
	}
}

// shortTexts is all texts of up to two bytes.
func shortTexts() [][]byte {
	l := [][]byte{nil, {}}
	for i := range 256 {
		l = append(l, []byte{byte(i)})
		for j := range 256 {
			l = append(l, []byte{byte(i), byte(j)})
		}
	}
	return l
}

// byBig is the number that bytes are by twos' complement, however many they are.
func byBig(b []byte) *big.Int {
	n := new(big.Int).SetBytes(b)
	if len(b) > 0 && b[0] >= 128 {
		n.Sub(n, new(big.Int).Lsh(big.NewInt(1), uint(8*len(b))))
	}
	return n
}

// shortest tells whether no shorter bytes are the same number.
func shortest(b []byte) bool {
	return len(b) > 0 && (len(b) == 1 || byBig(b).Cmp(byBig(b[1:])) != 0)
}

// expectInt fails unless IntOf tells what the chapter says of these bytes.
func expectInt(t *testing.T, b []byte) {
	t.Helper()
	n := raw(api.TagInt, b)
	switch {
	case !shortest(b):
		expectAsked(t, api.TagInt, n, api.ErrValue)
	case len(b) > 8:
		expectAsked(t, api.TagInt, n, api.ErrRange)
	default:
		if got, e := IntOf(n); e != api.OK || big.NewInt(got).Cmp(byBig(b)) != 0 {
			t.Fatalf("IntOf of %x: %d, %v", b, got, e)
		}
	}
}

// P6.1: IntOf.
func TestIntOf(t *testing.T) {
	for _, b := range shortTexts() {
		expectInt(t, b)
	}
	edges := []byte{0, 1, 127, 128, 254, 255}
	for size := 3; size <= 12; size++ {
		for _, first := range edges {
			for _, second := range edges {
				for _, rest := range edges {
					b := bytes.Repeat([]byte{rest}, size)
					b[0], b[1] = first, second
					expectInt(t, b)
				}
			}
		}
	}
}

func TestIntOfTheLongest(t *testing.T) {
	for _, size := range []int{8, 9, 10, 127, 128, 65535, 65536} {
		for _, first := range [][]byte{{1, 0}, {0, 128}, {255, 127}, {0, 127}, {255, 128}, {128, 0}} {
			b := append(slices.Clone(first), make([]byte, size-2)...)
			expectInt(t, b)
		}
	}
	expectAsked(t, api.TagInt, raw(api.TagInt, []byte{0, 128, 0, 0, 0, 0, 0, 0, 0}), api.ErrRange)       // 2^63
	expectAsked(t, api.TagInt, raw(api.TagInt, []byte{255, 127, 0, 0, 0, 0, 0, 0, 0}), api.ErrRange)     // below -2^63
	expectAsked(t, api.TagInt, raw(api.TagInt, []byte{0, 127, 0, 0, 0, 0, 0, 0, 0}), api.ErrValue)       // ahead of ErrRange
	expectAsked(t, api.TagInt, raw(api.TagInt, []byte{1, 0, 0, 0, 0, 0, 0, 0, 0}, Null()), api.ErrValue) // likewise
}

// P6.2: BytesOf, Utf8Of, IdOf, TimeOf.

func TestBytesOf(t *testing.T) {
	for _, b := range append(texts(), shortTexts()...) {
		got, e := BytesOf(raw(api.TagBytes, b))
		if e != api.OK || !bytes.Equal(got, b) || got != nil && len(got) == 0 {
			t.Fatalf("BytesOf of %.80x: %.80x, %v", b, got, e)
		}
	}
}

func TestUtf8Of(t *testing.T) {
	for _, s := range goodUtf8() {
		if got, e := Utf8Of(raw(api.TagUtf8, []byte(s))); e != api.OK || got != s {
			t.Fatalf("Utf8Of of %.80q: %.80q, %v", s, got, e)
		}
	}
	for _, s := range badUtf8() {
		expectAsked(t, api.TagUtf8, raw(api.TagUtf8, []byte(s)), api.ErrValue)
	}
}

func TestIdOf(t *testing.T) {
	for _, o := range goodOids() {
		if got, e := IdOf(raw(api.TagOid, oid.Bytes(o))); e != api.OK || !slices.Equal(got, o) {
			t.Fatalf("IdOf of %v: %v, %v", o, got, e)
		}
	}
	if got, e := IdOf(raw(api.TagOid, []byte{42, 134, 72})); e != api.OK || !slices.Equal(got, api.Oid{1, 2, 840}) {
		t.Errorf("IdOf of 42, 134, 72: %v, %v", got, e)
	}
	for _, b := range [][]byte{nil, {}, {128}, {128, 1}, {42, 134}, {42, 128, 1}, {42, 0x90, 0x80, 0x80, 0x80, 0}, {0x90, 0x80, 0x80, 0x80, 0}, make([]byte, 20), make([]byte, 1<<16), bytes.Repeat([]byte{255}, 1<<16)} {
		expectAsked(t, api.TagOid, raw(api.TagOid, b), api.ErrValue)
	}
}

func TestTimeOf(t *testing.T) {
	for s, want := range map[string]int64{"19700101000000Z": 0, "20240229120000Z": 1709208000, "00010101000000Z": firstTime, "99991231235959Z": lastTime, "19691231235959Z": -1} {
		if got, e := TimeOf(raw(api.TagTime, []byte(s))); e != api.OK || got != want {
			t.Fatalf("TimeOf of %s: %d, %v", s, got, e)
		}
	}
	for _, s := range []string{"", "Z", "20230229000000Z", "00000101000000Z", "19700101000060Z", "19700101240000Z", "19700101000000", "19700101000000z", "19700101000000.5Z", " 19700101000000Z", "19700101000000ZZ", string(make([]byte, 1<<16))} {
		expectAsked(t, api.TagTime, raw(api.TagTime, []byte(s)), api.ErrValue)
	}
}

// P6.3: Kids.

// expectNoKids fails unless Kids tells that error, and none beside it.
func expectNoKids(t *testing.T, n api.Node, tag int, want api.Errno) {
	t.Helper()
	if got, e := Kids(n, tag); e != want || got != nil {
		t.Fatalf("Kids of %s by %d: %d, %v, want %v", brief(n), tag, len(got), e, want)
	}
}

// expectKids fails unless these are told, and what is empty is none.
func expectKids(t *testing.T, n api.Node, tag int, want []api.Node) {
	t.Helper()
	got, e := Kids(n, tag)
	if e != api.OK || !slices.EqualFunc(got, want, der.Same) {
		t.Fatalf("Kids of %s by %d: %d of them, %v", brief(n), tag, len(got), e)
	}
	if got != nil && len(got) == 0 {
		t.Fatal("no Kids, but not none")
	}
	for _, k := range got {
		expectNoEmpty(t, k)
	}
}

// boxTags is the chapter 5's tags of what has parts, number by number.
func boxTags() []int {
	tags := []int{48, 49}
	for tag := 160; tag <= 190; tag++ {
		tags = append(tags, tag)
	}
	return tags
}

func TestKids(t *testing.T) {
	for _, l := range lists() {
		for _, tag := range []int{api.TagSeq, api.TagSet, api.TagBox, api.TagBox + 30} {
			expectKids(t, raw(tag, nil, l...), tag, l)
			expectKids(t, raw(tag, []byte{}, l...), tag, l)
		}
	}
}

func TestKidsOfEachTag(t *testing.T) {
	for _, tag := range allTags() {
		n := raw(tag, nil, Int(2), Int(1))
		if !slices.Contains(boxTags(), tag) {
			expectNoKids(t, n, tag, api.ErrTag)
			expectNoKids(t, raw(tag, nil), tag, api.ErrTag)
			expectNoKids(t, raw(tag, []byte{1}), tag, api.ErrTag) // ahead of ErrValue
			continue
		}
		expectKids(t, n, tag, []api.Node{Int(2), Int(1)})
		expectKids(t, raw(tag, nil), tag, nil)
		expectNoKids(t, raw(tag, []byte{1}), tag, api.ErrValue)
		expectNoKids(t, raw(tag, []byte{5, 0}, Null()), tag, api.ErrValue)
	}
}

func TestKidsByAnotherTag(t *testing.T) {
	for _, tag := range boxTags() {
		for _, other := range allTags() {
			if other == tag {
				continue
			}
			expectNoKids(t, raw(tag, nil, Null()), other, api.ErrTag)
			expectNoKids(t, raw(other, nil, Null()), tag, api.ErrTag)
			expectNoKids(t, raw(tag, []byte{1}, Null()), other, api.ErrTag) // ahead of ErrValue
		}
	}
}
