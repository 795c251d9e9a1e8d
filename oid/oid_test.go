package oid

import (
	"bytes"
	"encoding/asn1"
	"math"
	"math/rand"
	"slices"
	"strconv"
	"strings"
	"testing"

	"apostille/api"
)

// long is an identifier of so many numbers, each of them n behind 1.2.
func long(count int, n uint32) api.Oid {
	o := api.Oid{1, 2}
	for len(o) < count {
		o = append(o, n)
	}
	return o[:count]
}

// edges are fit identifiers at the edges that the chapter names, and at each length of a number in bytes.
func edges() []api.Oid {
	l := []api.Oid{
		{0, 0}, {0, 39}, {1, 0}, {1, 39}, {2, 0}, {2, 39}, {2, 40}, {2, 47}, {2, 48}, {2, 127}, {2, 999},
		{2, math.MaxUint32 - 81}, {2, math.MaxUint32 - 80}, {2, 5, 4, 3}, {1, 2, 840}, {1, 2, 840, 113549, 1, 7, 2},
		{0, 0, 0}, {0, 0, 0, 0}, {2, math.MaxUint32 - 80, math.MaxUint32},
		long(api.MaxOid, 0), long(api.MaxOid, 127), long(api.MaxOid, 128), long(api.MaxOid, math.MaxUint32),
	}
	for bit := range 32 {
		for _, n := range []uint32{1<<bit - 1, 1 << bit, 1<<bit + 1} {
			l = append(l, api.Oid{1, 2, n}, api.Oid{2, 1, n, 0}, api.Oid{0, 3, 7, n})
		}
	}
	return append(l, api.Oid{1, 2, math.MaxUint32})
}

// randomFit is a fit identifier whose numbers are of all lengths.
func randomFit(r *rand.Rand) api.Oid {
	o := api.Oid{uint32(r.Intn(3)), uint32(r.Intn(arc))}
	if o[0] == 2 && r.Intn(2) == 0 {
		o[1] = min(r.Uint32()>>r.Intn(32), math.MaxUint32-80)
	}
	for range r.Intn(api.MaxOid - 1) {
		o = append(o, r.Uint32()>>r.Intn(32))
	}
	return o
}

// some are the edges, and many more.
func some() []api.Oid {
	l := edges()
	r := rand.New(rand.NewSource(2))
	for range 2000 {
		l = append(l, randomFit(r))
	}
	return l
}

// unfit are no identifiers, each by another of the chapter's words.
func unfit() []api.Oid {
	l := []api.Oid{
		nil, {}, {0}, {1}, {2}, {3}, {math.MaxUint32},
		{0, 40}, {0, 41}, {0, math.MaxUint32}, {1, 40}, {1, 79}, {1, 80}, {1, math.MaxUint32}, {1, 40, 1},
		{2, math.MaxUint32 - 79}, {2, math.MaxUint32}, {2, math.MaxUint32 - 79, 1},
		{3, 0}, {3, 39}, {3, 1, 2}, {4, 5}, {math.MaxUint32, 0}, {math.MaxUint32, math.MaxUint32},
		// 40 times the first, in 32 bits, comes round to a small number.
		{1 << 29, 1}, {107374183, 0},
		long(api.MaxOid+1, 0), long(api.MaxOid+1, 5), long(api.MaxOid+2, 5), long(1000, 1), long(1<<16, 1),
	}
	return l
}

// dots is numbers in digits, a point between, fit or not.
func dots(o api.Oid) string {
	var parts []string
	for _, n := range o {
		parts = append(parts, strconv.FormatUint(uint64(n), 10))
	}
	return strings.Join(parts, ".")
}

// sevens is a number by 7 bits in exactly so many bytes.
func sevens(n uint64, size int) []byte {
	b := make([]byte, size)
	for i := range size {
		b[size-1-i] = byte(n>>(7*i))&0x7f | 0x80
	}
	b[size-1] &= 0x7f
	return b
}

func expectParse(t *testing.T, b []byte, want api.Oid) {
	t.Helper()
	o, e := Parse(b)
	if e != api.OK || !slices.Equal(o, want) {
		t.Errorf("Parse(%x): got %v, %v, want %v", b, o, e, want)
	}
}

func expectNoBytes(t *testing.T, b []byte) {
	t.Helper()
	o, e := Parse(b)
	if e != api.ErrValue || o != nil {
		t.Errorf("Parse(%x): got %v, %v, want none and ErrValue", b[:min(len(b), 64)], o, e)
	}
}

func expectRead(t *testing.T, s string, want api.Oid) {
	t.Helper()
	o, e := Read(s)
	if e != api.OK || !slices.Equal(o, want) {
		t.Errorf("Read(%q): got %v, %v, want %v", s, o, e, want)
	}
}

func expectNoText(t *testing.T, s string) {
	t.Helper()
	o, e := Read(s)
	if e != api.ErrForm || o != nil {
		t.Errorf("Read(%q): got %v, %v, want none and ErrForm", s[:min(len(s), 64)], o, e)
	}
}

// P2.1

func TestFit(t *testing.T) {
	for _, o := range some() {
		if !Fit(o) {
			t.Errorf("%v is fit", o)
		}
	}
	for _, o := range unfit() {
		if Fit(o) {
			t.Errorf("%v is not fit", o[:min(len(o), 30)])
		}
	}
}

func TestBytesOrdinary(t *testing.T) {
	cases := []struct {
		o    api.Oid
		want []byte
	}{
		{api.Oid{1, 2, 840}, []byte{42, 134, 72}},
		{api.Oid{0, 0}, []byte{0}},
		{api.Oid{0, 39}, []byte{39}},
		{api.Oid{1, 0}, []byte{40}},
		{api.Oid{1, 39}, []byte{79}},
		{api.Oid{2, 0}, []byte{80}},
		{api.Oid{2, 47}, []byte{127}},
		{api.Oid{2, 48}, []byte{0x81, 0}},
		{api.Oid{2, 999, 3}, []byte{0x88, 0x37, 3}},
		{api.Oid{2, math.MaxUint32 - 80}, []byte{0x8f, 0xff, 0xff, 0xff, 0x7f}},
		{api.Oid{2, 5, 0, 127, 128, math.MaxUint32}, []byte{85, 0, 127, 0x81, 0, 0x8f, 0xff, 0xff, 0xff, 0x7f}},
		{api.Oid{1, 2, 840, 113549}, []byte{0x2a, 0x86, 0x48, 0x86, 0xf7, 0x0d}},
		{long(api.MaxOid, 1), append([]byte{42}, bytes.Repeat([]byte{1}, 18)...)},
	}
	for _, c := range cases {
		if got := Bytes(c.o); !bytes.Equal(got, c.want) {
			t.Errorf("Bytes(%v): got %x, want %x", c.o, got, c.want)
		}
		expectParse(t, c.want, c.o)
	}
}

// The library's own DER, without the tag and the length.
func TestBytesAsTheLibrary(t *testing.T) {
	for _, o := range some() {
		var theirs asn1.ObjectIdentifier
		for _, n := range o {
			theirs = append(theirs, int(n))
		}
		want, err := asn1.Marshal(theirs)
		if err != nil {
			t.Fatal(err)
		}
		if got := Bytes(o); !bytes.Equal(got, want[2:]) {
			t.Errorf("Bytes(%v): got %x, want %x", o, got, want[2:])
		}
	}
}

func TestBytesOfUnfitIsNone(t *testing.T) {
	for _, o := range unfit() {
		if got := Bytes(o); got != nil {
			t.Errorf("Bytes(%v): got %x, want none", o[:min(len(o), 30)], got)
		}
	}
}

func TestParseFirstTwo(t *testing.T) {
	for n := range uint32(1000) {
		want := api.Oid{2, n - 80}
		if n < 80 {
			want = api.Oid{n / 40, n % 40}
		}
		size := 1
		if n > 127 {
			size = 2
		}
		expectParse(t, sevens(uint64(n), size), want)
	}
}

func TestParseWrong(t *testing.T) {
	wrong := [][]byte{
		nil, {}, {128}, {255}, {128, 1}, {128, 0}, {128, 128, 1},
		{42, 128}, {42, 129}, {42, 134}, {42, 128, 1}, {42, 128, 0}, {42, 128, 129, 0}, {42, 3, 128, 5, 4},
		{42, 134, 72, 255}, {42, 5, 128}, {0x90, 0x80, 0x80, 0x80, 0}, {42, 0x90, 0x80, 0x80, 0x80, 0},
		{42, 0x9f, 0xff, 0xff, 0xff, 0x7f}, {42, 0xff, 0xff, 0xff, 0xff, 0x7f},
		append([]byte{42}, bytes.Repeat([]byte{1}, 19)...),
		append([]byte{42}, bytes.Repeat([]byte{1}, 20)...),
		bytes.Repeat([]byte{1}, 1<<16), bytes.Repeat([]byte{255}, 1<<16), make([]byte, 1<<16),
	}
	for _, b := range wrong {
		expectNoBytes(t, b)
	}
}

// A number in bytes may be neither longer than it must be nor of more than 32 bits.
func TestParseNumbersTooLongOrTooGreat(t *testing.T) {
	for _, n := range []uint64{0, 1, 127, 128, 1 << 14, 1 << 21, 1 << 28, math.MaxUint32} {
		least := 1
		for n>>(7*least) > 0 {
			least++
		}
		for size := least; size < 12; size++ {
			alone, behind := sevens(n, size), append([]byte{42}, sevens(n, size)...)
			if size > least {
				expectNoBytes(t, alone)
				expectNoBytes(t, behind)
				continue
			}
			expectParse(t, behind, api.Oid{1, 2, uint32(n)})
		}
	}
	for _, n := range []uint64{1 << 32, 1<<32 + 5, 1<<33 + 80, 1<<35 - 1, 1 << 35, 1<<42 + 1, 1 << 62} {
		for size := 5; size < 12; size++ {
			if size < 10 && n>>(7*size) > 0 {
				continue
			}
			expectNoBytes(t, sevens(n, size))
			expectNoBytes(t, append([]byte{42}, sevens(n, size)...))
		}
	}
}

func TestParseTooMany(t *testing.T) {
	for count := 2; count < 40; count++ {
		b := []byte{42}
		for range count - 2 {
			b = append(b, 0x81, 0)
		}
		if count > api.MaxOid {
			expectNoBytes(t, b)
			continue
		}
		expectParse(t, b, long(count, 128))
	}
}

// P2.2

func TestText(t *testing.T) {
	cases := []struct {
		o    api.Oid
		want string
	}{
		{api.Oid{1, 2, 840}, "1.2.840"},
		{api.Oid{0, 0}, "0.0"},
		{api.Oid{1, 39}, "1.39"},
		{api.Oid{2, 40}, "2.40"},
		{api.Oid{2, math.MaxUint32 - 80}, "2.4294967215"},
		{api.Oid{2, 5, 0, math.MaxUint32, 10}, "2.5.0.4294967295.10"},
		{long(api.MaxOid, 3), "1.2" + strings.Repeat(".3", 18)},
	}
	for _, c := range cases {
		if got := Text(c.o); got != c.want {
			t.Errorf("Text(%v): got %q, want %q", c.o, got, c.want)
		}
		expectRead(t, c.want, c.o)
	}
	for _, o := range some() {
		if got := Text(o); got != dots(o) {
			t.Errorf("Text(%v): got %q", o, got)
		}
	}
}

func TestTextOfUnfitIsEmpty(t *testing.T) {
	for _, o := range unfit() {
		if got := Text(o); got != "" {
			t.Errorf("Text(%v): got %q, want none", o[:min(len(o), 30)], got)
		}
		expectNoText(t, dots(o))
	}
}

func TestReadWrong(t *testing.T) {
	wrong := []string{
		"", ".", "..", "1", "1.", ".1", "1..2", ".1.2", "1.2.", "1.2..3", "1.2.3.",
		"1.40", "0.40", "3.1", "2.4294967216", "2.4294967296", "1.2.4294967296", "1.2.4294967297",
		"1.2.18446744073709551616", "1.2.18446744073709551617", "4294967297.2", "1.4294967298",
		"01.2", "1.02", "1.2.00", "1.2.01", "1.2.000000000000000000000001", "00.1",
		"+1.2", "1.+2", "-1.2", "1.-2", "1.2.-0", " 1.2", "1.2 ", "1. 2", "1.2\n", "1.2\x00", "1.2.3\t",
		"a.b", "1.a", "1.2.0x1", "1.2.1_0", "1.2.1e3", "1.2.3a", "1,2", "1.2,3", "1/2", "1:2", "1.2.:", "1.2./",
		"1.2.\u0663", "1.2.\u00b2", "\uff11.2", "1\u20242", "1.2.\xff", "oid",
		strings.Repeat("1", 1<<16), strings.Repeat(".", 1<<16), strings.Repeat("1.", 1<<15),
		"1.2." + strings.Repeat("0", 1<<15) + "1",
		"1.2" + strings.Repeat(".3", 19), "1.2" + strings.Repeat(".3", 20), "1.2" + strings.Repeat(".3", 18) + ".",
	}
	for _, s := range wrong {
		expectNoText(t, s)
	}
}

func TestSame(t *testing.T) {
	l := append(edges(), unfit()...)
	for _, a := range l {
		for _, b := range l {
			want := len(a) == len(b)
			for i := 0; want && i < len(a); i++ {
				want = a[i] == b[i]
			}
			if Same(a, b) != want {
				t.Errorf("Same(%v, %v): got %v", a[:min(len(a), 30)], b[:min(len(b), 30)], !want)
			}
		}
	}
	if !Same(nil, api.Oid{}) || Same(nil, api.Oid{0}) || Same(api.Oid{1, 2}, api.Oid{1, 2, 0}) || Same(api.Oid{1, 2}, api.Oid{2, 1}) {
		t.Error("Same of none, of a longer one, or of another order")
	}
}

// P2.3

func TestThereAndBack(t *testing.T) {
	for _, o := range some() {
		expectParse(t, Bytes(o), o)
		expectRead(t, Text(o), o)
	}
}

// Each text of up to three bytes, from those that stand at the edges, is one's bytes or no one's.
func TestBytesOfWhatParseTells(t *testing.T) {
	check := func(b []byte) {
		o, e := Parse(b)
		if e == api.OK && (!Fit(o) || !bytes.Equal(Bytes(o), b)) {
			t.Fatalf("Parse(%x) tells %v, whose bytes are %x", b, o, Bytes(o))
		}
		if want := isIdentifier(b); (e == api.OK) != want {
			t.Fatalf("Parse(%x): got %v, but being an identifier is %v", b, e, want)
		}
	}
	for x := range 256 {
		check([]byte{byte(x)})
		for y := range 256 {
			check([]byte{byte(x), byte(y)})
		}
	}
	r := rand.New(rand.NewSource(3))
	for range 200000 {
		b := make([]byte, r.Intn(30))
		r.Read(b)
		for i := range b {
			switch r.Intn(6) {
			case 0:
				b[i] = 128
			case 1, 2:
				b[i] &= 0x7f
			}
		}
		check(b)
	}
}

// isIdentifier goes by the chapter's words on the bytes alone.
func isIdentifier(b []byte) bool {
	if len(b) == 0 || b[len(b)-1] > 127 {
		return false
	}
	numbers, start := 1, 0
	for i, x := range b {
		if x > 127 {
			continue
		}
		if b[start] == 128 || i-start > 4 || i-start == 4 && b[start] > 0x8f {
			return false
		}
		numbers, start = numbers+1, i+1
	}
	return numbers <= api.MaxOid
}

func TestTextOfWhatReadTells(t *testing.T) {
	r := rand.New(rand.NewSource(4))
	const signs = "0012345.....9+ "
	for range 200000 {
		b := []byte{}
		for range r.Intn(12) {
			b = append(b, signs[r.Intn(len(signs))])
		}
		s := string(b)
		o, e := Read(s)
		if e == api.OK && (!Fit(o) || Text(o) != s) {
			t.Fatalf("Read(%q) tells %v, whose text is %q", s, o, Text(o))
		}
		if e != api.OK && (e != api.ErrForm || o != nil) {
			t.Fatalf("Read(%q): got %v, %v", s, o, e)
		}
	}
}

// P2.4

func TestUnlikeBytes(t *testing.T) {
	l := some()
	for _, o := range edges() {
		for size := 2; size < len(o); size++ {
			l = append(l, o[:size])
		}
	}
	var all [][]byte
	for _, o := range l {
		all = append(all, Bytes(o))
	}
	for i, a := range l {
		for k, b := range l {
			begins := len(a) <= len(b) && slices.Equal(a, b[:len(a)])
			if got := bytes.HasPrefix(all[k], all[i]); got != begins {
				t.Fatalf("bytes of %v begin those of %v: %v", a, b, got)
			}
			if bytes.Equal(all[i], all[k]) != Same(a, b) {
				t.Fatalf("%v and %v: their bytes", a, b)
			}
		}
	}
}

// Rule 0.5

func TestNothingShared(t *testing.T) {
	o := api.Oid{1, 2, 840, 113549}
	b := []byte{0x2a, 0x86, 0x48, 0x86, 0xf7, 0x0d}
	one, two := Bytes(o), Bytes(o)
	one[0] = 99
	if !bytes.Equal(two, b) || !slices.Equal(o, api.Oid{1, 2, 840, 113549}) {
		t.Error("Bytes shares or changes")
	}
	p, _ := Parse(b)
	q, _ := Parse(b)
	p[0] = 0
	if !slices.Equal(q, o) || !bytes.Equal(b, two) {
		t.Error("Parse shares or changes")
	}
	p, _ = Read("1.2.840.113549")
	q, _ = Read("1.2.840.113549")
	p[0] = 0
	if !slices.Equal(q, o) {
		t.Error("Read shares")
	}
	wide := append(make(api.Oid, 0, 10), o...)
	Bytes(wide[:2])
	Text(wide[:2])
	if !slices.Equal(wide, o) {
		t.Error("what stands behind an argument was changed")
	}
}
