package value

import (
	"bytes"
	"math/rand"
	"slices"
	"testing"

	"apostille/api"
	"apostille/der"
	"apostille/order"
)

// P6.4: there and back.

func TestPlainValuesThereAndBack(t *testing.T) {
	r := rand.New(rand.NewSource(6))
	for _, n := range numbers() {
		if got, e := IntOf(Int(n)); e != api.OK || got != n {
			t.Fatalf("IntOf of Int(%d): %d, %v", n, got, e)
		}
	}
	for range 20000 {
		n := int64(r.Uint64()) >> r.Intn(64)
		if got, e := IntOf(Int(n)); e != api.OK || got != n || !der.Fit(Int(n)) {
			t.Fatalf("IntOf of Int(%d): %d, %v", n, got, e)
		}
		at := firstTime + r.Int63n(lastTime-firstTime+1)
		if got, e := TimeOf(made(t)(Time(at))); e != api.OK || got != at {
			t.Fatalf("TimeOf of Time(%d): %d, %v", at, got, e)
		}
		o := api.Oid{2, r.Uint32() >> 1, r.Uint32(), r.Uint32() >> r.Intn(32)}
		if got, e := IdOf(made(t)(Id(o))); e != api.OK || !slices.Equal(got, o) {
			t.Fatalf("IdOf of Id(%v): %v, %v", o, got, e)
		}
	}
	for _, b := range texts() {
		if got, e := BytesOf(Bytes(b)); e != api.OK || !bytes.Equal(got, b) {
			t.Fatalf("BytesOf of Bytes: %.80x, %v", got, e)
		}
	}
	for _, s := range goodUtf8() {
		if got, e := Utf8Of(made(t)(Utf8(s))); e != api.OK || got != s {
			t.Fatalf("Utf8Of of Utf8: %.80q, %v", got, e)
		}
	}
}

func TestKidsThereAndBack(t *testing.T) {
	for _, l := range lists() {
		expectKids(t, Seq(l...), api.TagSeq, l)
		for _, k := range []int{0, 1, 30} {
			expectKids(t, made(t)(Box(k, l...)), api.TagBox+k, l)
		}
	}
	expectNoKids(t, Seq(Int(1)), api.TagSet, api.ErrTag)
	expectNoKids(t, made(t)(Box(1, Int(1))), api.TagBox, api.ErrTag)
	expectNoKids(t, made(t)(Part(1, []byte{1})), api.TagPart+1, api.ErrTag)
	expectNoKids(t, Bytes(nil), api.TagBytes, api.ErrTag)
}

// sortedByOrder is fit values by the order of chapter 4, as their bytes tell them.
func sortedByOrder(t *testing.T, l []api.Node) []api.Node {
	t.Helper()
	var texts [][]byte
	for _, n := range l {
		b, e := der.Bytes(n)
		if e != api.OK {
			t.Fatalf("not fit: %s", brief(n))
		}
		texts = append(texts, b)
	}
	var out []api.Node
	for _, b := range order.Sort(texts) {
		n, e := der.Parse(b)
		if e != api.OK {
			t.Fatal(e)
		}
		out = append(out, n)
	}
	return out
}

func TestSetThereAndBack(t *testing.T) {
	r := rand.New(rand.NewSource(7))
	for range 2000 {
		l := make([]api.Node, r.Intn(9))
		for i := range l {
			l[i] = drawn(t, r, 3)
		}
		want := sortedByOrder(t, l)
		expectKids(t, made(t)(Set(l...)), api.TagSet, want)
		r.Shuffle(len(l), func(i, j int) { l[i], l[j] = l[j], l[i] })
		expectKids(t, made(t)(Set(l...)), api.TagSet, want)
	}
}

// P6.5: fit.

// drawn is a value that the functions of this layer make, of as many levels at most.
func drawn(t *testing.T, r *rand.Rand, levels int) api.Node {
	b := make([]byte, r.Intn(4)*r.Intn(50))
	r.Read(b)
	kinds := 11
	if levels <= 1 {
		kinds = 7
	}
	switch r.Intn(kinds) {
	case 0:
		return Int(int64(r.Uint64()) >> r.Intn(64))
	case 1:
		return Bytes(b)
	case 2:
		return made(t)(Utf8(string(bytes.ToValidUTF8(b, []byte("\u00e9")))))
	case 3:
		return made(t)(Id(api.Oid{1, r.Uint32() % 40, r.Uint32()}))
	case 4:
		return made(t)(Time(r.Int63n(lastTime)))
	case 5:
		return Null()
	case 6:
		return made(t)(Part(r.Intn(31), b))
	case 7, 8:
		return Seq(drawnList(t, r, levels-1)...)
	case 9:
		return made(t)(Set(drawnList(t, r, levels-1)...))
	}
	return made(t)(Box(r.Intn(31), drawnList(t, r, levels-1)...))
}

func drawnList(t *testing.T, r *rand.Rand, levels int) []api.Node {
	var l []api.Node
	for range r.Intn(5) {
		l = append(l, drawn(t, r, levels))
	}
	return l
}

func TestWhatIsMadeIsFit(t *testing.T) {
	r := rand.New(rand.NewSource(8))
	for range 5000 {
		n := drawn(t, r, 6)
		b, e := der.Bytes(n)
		if e != api.OK || !der.Fit(n) {
			t.Fatalf("not fit: %s", brief(n))
		}
		back, e := der.Parse(b)
		if e != api.OK || !der.Same(back, n) {
			t.Fatalf("%s is read as %s, %v", brief(n), brief(back), e)
		}
		expectNoEmpty(t, n)
	}
}

func TestWhatIsMadeOfFitValuesIsFit(t *testing.T) {
	for _, n := range some() {
		if !der.Fit(n) {
			t.Fatalf("not fit to begin with: %s", brief(n))
		}
		for _, v := range []api.Node{Seq(n), Seq(n, n), made(t)(Set(n)), made(t)(Set(n, n)), made(t)(Box(0, n)), made(t)(Box(30, n, n))} {
			if !der.Fit(v) {
				t.Fatalf("not fit: %s", brief(v))
			}
		}
	}
	l := some()
	slices.Reverse(l)
	for _, v := range []api.Node{Seq(l...), made(t)(Set(l...)), made(t)(Box(7, l...))} {
		if !der.Fit(v) {
			t.Fatalf("not fit: %s", brief(v))
		}
	}
}

// As far as it is not too deep or too long: the last that are fit, and the first that are not.
func TestWhatIsMadeIsFitUpToTheLimits(t *testing.T) {
	for depth := 1; depth <= 40; depth++ {
		n := nested(depth)
		if got, want := der.Fit(Seq(n)), depth < api.MaxDepth; got != want {
			t.Errorf("Seq of what is %d deep is fit: %v", depth, got)
		}
	}
	const ahead = 5 // the tag, and a length of four bytes
	for size, want := range map[int]bool{api.MaxDer - ahead: true, api.MaxDer - ahead + 1: false} {
		n := Bytes(make([]byte, size))
		if got := der.Fit(n); got != want {
			t.Errorf("Bytes of %d is fit: %v", size, got)
		}
		n = made(t)(Part(0, make([]byte, size)))
		if got := der.Fit(n); got != want {
			t.Errorf("Part of %d is fit: %v", size, got)
		}
		n = Seq(Bytes(make([]byte, size-ahead)))
		if got := der.Fit(n); got != want {
			t.Errorf("Seq of %d is fit: %v", size, got)
		}
	}
}

// Rules 0.5 and 7: what is given is not changed, and what is told is new memory.

// twin is the same value in memory of its own, apart from the program's way.
func twin(n api.Node) api.Node {
	out := api.Node{Tag: n.Tag, Bytes: bytes.Clone(n.Bytes)}
	for _, k := range n.Kids {
		out.Kids = append(out.Kids, twin(k))
	}
	return out
}

func twins(l []api.Node) []api.Node {
	return twin(api.Node{Kids: l}).Kids
}

// spoil changes all that a value has.
func spoil(n *api.Node) {
	n.Tag ^= 1
	spoilBytes(n.Bytes)
	for i := range n.Kids {
		spoil(&n.Kids[i])
	}
}

// spoilBytes changes what lies in the room behind the bytes as well.
func spoilBytes(b []byte) {
	b = b[:cap(b)]
	for i := range b {
		b[i] ^= 255
	}
}

func spoilList(l []api.Node) {
	for i := range l {
		spoil(&l[i])
	}
}

// expectApart fails if spoiling what was given changes what was told, or the other way about.
func expectApart(t *testing.T, name string, given []api.Node, call func(...api.Node) api.Node) {
	t.Helper()
	before := twins(given)
	told := call(given...)
	if !slices.EqualFunc(given, before, der.Same) {
		t.Fatalf("%s changed what it was given", name)
	}
	kept := twin(told)
	spoilList(given)
	if !der.Same(told, kept) {
		t.Fatalf("%s shares memory with what it was given", name)
	}
	spoilt := twins(given)
	spoil(&told)
	if !slices.EqualFunc(given, spoilt, der.Same) {
		t.Fatalf("what %s told shares memory with what it was given", name)
	}
}

func TestPartsAreNewMemory(t *testing.T) {
	for name, call := range map[string]func(...api.Node) api.Node{
		"Seq": Seq,
		"Set": func(l ...api.Node) api.Node { return made(t)(Set(l...)) },
		"Box": func(l ...api.Node) api.Node { return made(t)(Box(2, l...)) },
		"Kids": func(l ...api.Node) api.Node {
			got, _ := Kids(api.Node{Tag: api.TagSeq, Kids: l}, api.TagSeq)
			return api.Node{Kids: got}
		},
	} {
		l := twins(some())
		slices.Reverse(l)
		expectApart(t, name, l, call)
	}
}

// No two lists of one answer share memory, though those that were given do.
func TestPartsOfOneAnswerAreApart(t *testing.T) {
	shared := raw(api.TagSeq, nil, raw(api.TagBytes, []byte{1, 2, 3}))
	seq := Seq(shared, shared)
	set := made(t)(Set(shared, shared))
	box := made(t)(Box(0, shared, shared))
	kids, _ := Kids(raw(api.TagSeq, nil, shared, shared), api.TagSeq)
	for name, l := range map[string][]api.Node{"Seq": seq.Kids, "Set": set.Kids, "Box": box.Kids, "Kids": kids} {
		spoil(&l[0])
		if !der.Same(l[1], shared) {
			t.Errorf("parts that %s told share memory", name)
		}
	}
}

// expectBytesApart fails unless a text that was given, and what was told of it, are apart, and it is as it was.
func expectBytesApart(t *testing.T, name string, told func(b []byte) []byte) {
	t.Helper()
	b := []byte("19700101000000Z")
	got := told(b)
	if string(b) != "19700101000000Z" || !bytes.Equal(got, b) {
		t.Fatalf("%s: %s of %s", name, got, b)
	}
	spoilBytes(b)
	if string(got) != "19700101000000Z" {
		t.Fatalf("%s shares memory with what it was given", name)
	}
	spoilt := bytes.Clone(b)
	spoilBytes(got)
	if !bytes.Equal(b, spoilt) {
		t.Fatalf("what %s told shares memory with what it was given", name)
	}
}

func TestTextsAreNewMemory(t *testing.T) {
	expectBytesApart(t, "Bytes", func(b []byte) []byte { return Bytes(b).Bytes })
	expectBytesApart(t, "Part", func(b []byte) []byte { return made(t)(Part(1, b)).Bytes })
	expectBytesApart(t, "BytesOf", func(b []byte) []byte {
		got, _ := BytesOf(raw(api.TagBytes, b))
		return got
	})
	o := api.Oid{1, 2, 840}
	n := made(t)(Id(o))
	o[2] = 1
	expectSame(t, n, raw(api.TagOid, []byte{42, 134, 72}))
	got, _ := IdOf(n)
	got[0] = 2
	expectSame(t, n, raw(api.TagOid, []byte{42, 134, 72}))
}

// What was told once is told anew, though it was changed.
func TestCallsAreApart(t *testing.T) {
	for name, call := range map[string]func() api.Node{
		"Int":  func() api.Node { return Int(70000) },
		"Utf8": func() api.Node { return made(t)(Utf8("abc")) },
		"Id":   func() api.Node { return made(t)(Id(api.Oid{1, 2})) },
		"Time": func() api.Node { return made(t)(Time(0)) },
		"Null": Null,
		"Seq":  func() api.Node { return Seq(Null()) },
	} {
		first := call()
		kept := twin(first)
		spoil(&first)
		if !der.Same(call(), kept) {
			t.Errorf("%s tells what was changed", name)
		}
	}
}
