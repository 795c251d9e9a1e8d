package wots

import (
	"bytes"
	"math/rand"
	"slices"
	"testing"

	"apostille/api"
)

// P17.5

func TestTheCandidateIsPublic(t *testing.T) {
	t.Parallel()
	r := rand.New(rand.NewSource(1751))
	for _, x := range ruledKinds() {
		for range 30 {
			a := drawnPlace(r, api.AdWotsHash).adrs()
			secret, pub, text := drawnBytes(r.Int63(), x.N), drawnBytes(r.Int63(), x.N), drawnBytes(r.Int63(), x.N)
			public, sig := Public(x, secret, pub, a), Sign(x, text, secret, pub, a)
			if len(public) != x.N || len(sig) != x.N*(2*x.N+3) {
				t.Fatalf("%v: %d and %d bytes", x, len(public), len(sig))
			}
			expect(t, "Candidate of what is signed", Candidate(x, sig, text, pub, a), public)
		}
	}
}

// Another text or place, other bytes that all know, or a signature that is spoilt anywhere, has another candidate.
func TestTheCandidateOfAnythingElseIsAnother(t *testing.T) {
	t.Parallel()
	for _, x := range ruledKinds() {
		secret, pub, text, at := drawnBytes(1, x.N), drawnBytes(2, x.N), drawnBytes(3, x.N), ruledPlace{layer: 1, treeLow: 2, first: 3}.adrs()
		public, sig := Public(x, secret, pub, at), Sign(x, text, secret, pub, at)
		differs := func(what string, sig, text, pub []byte, a api.Adrs) {
			t.Helper()
			if got := Candidate(x, sig, text, pub, a); len(got) != x.N || bytes.Equal(got, public) {
				t.Errorf("%v, another %s: %x", x, what, got)
			}
		}
		for i := range 8 * x.N {
			differs("text", sig, flipped(text, i), pub, at)
			differs("sum's beginning", sig, text, flipped(pub, i), at)
		}
		for _, i := range []int{3, 8, 11, 15, 20, 21, 22, 23} {
			differs("place", sig, text, pub, api.Adrs(flipped(at[:], 8*i+i%8)))
		}
		for i := 0; i < len(sig); i += 7 {
			differs("signature", flipped(sig, 8*i+i%8), text, pub, at)
		}
		differs("secret", Sign(x, text, flipped(secret, 100), pub, at), text, pub, at)
		other := x
		other.Shake = !x.Shake
		differs("kind", Sign(other, text, secret, pub, at), text, pub, at)
	}
}

// P17.6

// expectCheck fails unless each of two texts has a digit that is less than the other's.
func expectCheck(t *testing.T, a, b []byte) {
	t.Helper()
	da, db := Digits(len(a), a), Digits(len(b), b)
	if len(da) == 0 || len(da) != len(db) {
		t.Fatalf("Digits: %d, and %d", len(da), len(db))
	}
	less, more := false, false
	for i := range da {
		less = less || da[i] < db[i]
		more = more || da[i] > db[i]
	}
	if !less || !more {
		t.Errorf("of %x and %x one can be gone on from to the other", a, b)
	}
}

func TestUnlikeTextsHaveLesserDigits(t *testing.T) {
	r := rand.New(rand.NewSource(176))
	for _, n := range ruledSizes {
		least, most := make([]byte, n), bytes.Repeat([]byte{255}, n)
		expectCheck(t, least, most)
		for range 200 {
			text := drawnBytes(r.Int63(), n)
			expectCheck(t, text, drawnBytes(r.Int63(), n))
			expectCheck(t, text, least)
			expectCheck(t, text, most)
		}
		for i := range 8 * n {
			for _, text := range [][]byte{least, most, drawnBytes(r.Int63(), n)} {
				expectCheck(t, text, flipped(text, i))
			}
		}
	}
}

// The hardest to tell apart: all digits of one are at least the other's, by however little or much, so that the check alone is less.
func TestTheCheckTellsWhatGoesOn(t *testing.T) {
	r := rand.New(rand.NewSource(177))
	for _, n := range ruledSizes {
		for range 3000 {
			text := drawnBytes(r.Int63(), n)
			on := slices.Clone(text)
			for range 1 + r.Intn(40) {
				i := r.Intn(8 * n)
				on[i/8] |= 1 << (i % 8)
			}
			if !bytes.Equal(on, text) {
				expectCheck(t, text, on)
			}
		}
	}
}

// Every sum that a check can be, one behind the other: digits go up by one each, and the check's digits never all stay or go up.
func TestTheCheckOfEachSum(t *testing.T) {
	for _, n := range ruledSizes {
		text := make([]byte, n)
		ahead := Digits(n, text)
		for i := range 2 * n {
			for range 15 {
				on := slices.Clone(text)
				on[i/2] += []byte{16, 1}[i%2]
				expectCheck(t, text, on)
				next := Digits(n, on)
				if slices.Compare(next[2*n:], ahead[2*n:]) >= 0 {
					t.Fatalf("the check of %x is not below that of %x", on, text)
				}
				text, ahead = on, next
			}
		}
		if !bytes.Equal(text, bytes.Repeat([]byte{255}, n)) {
			t.Errorf("not all sums of %d bytes were gone through", n)
		}
	}
}

// Rule 0.5

// roomy is bytes that have room behind them, which an append would write to.
func roomy(b []byte) []byte {
	return slices.Concat(b, drawnBytes(9, 200))[:len(b)]
}

// whole is bytes with all the room behind them.
func whole(b []byte) []byte {
	return b[:cap(b)]
}

// What goes in is not changed, what comes out is new memory, and nothing is kept.
func TestNothingShared(t *testing.T) {
	a := drawnPlace(rand.New(rand.NewSource(178)), api.AdWotsHash).adrs()
	for _, x := range ruledKinds() {
		secret, pub, text := roomy(drawnBytes(1, x.N)), roomy(drawnBytes(2, x.N)), roomy(bytes.Repeat([]byte{0xf0}, x.N))
		sig := roomy(Sign(x, text, secret, pub, a))
		given := [][]byte{whole(secret), whole(pub), whole(text), whole(sig)}
		var was [][]byte
		for _, b := range given {
			was = append(was, slices.Clone(b))
		}
		calls := func() ([][]byte, []uint32) {
			return [][]byte{Sum(x, pub, a, text), Sum(x, pub, a, sig), Draw(x, pub, secret, a), Public(x, secret, pub, a), Sign(x, text, secret, pub, a), Candidate(x, sig, text, pub, a)}, Digits(x.N, text)
		}
		told, digits := calls()
		var want [][]byte
		for _, out := range told {
			want = append(want, slices.Clone(out))
			scribble(whole(out))
		}
		wantDigits := slices.Clone(digits)
		scribble(digits[:cap(digits)])
		if !slices.EqualFunc(given, was, bytes.Equal) {
			t.Errorf("%v: an argument was changed", x)
		}
		again, digits := calls()
		if !slices.EqualFunc(again, want, bytes.Equal) || !slices.Equal(digits, wantDigits) {
			t.Errorf("%v: the second time something else is told", x)
		}
	}
}

// scribble changes every item.
func scribble[T byte | uint32](l []T) {
	for i := range l {
		l[i]++
	}
}

// One text in the place of several.
func TestOneTextForSeveral(t *testing.T) {
	p := ruledPlace{layer: 7, treeLow: 8, first: 9}
	for _, x := range ruledKinds() {
		b := drawnBytes(10, x.N*(2*x.N+3))
		one := b[:x.N]
		expect(t, "Sum", Sum(x, one, p.adrs(), one), ruledSum(x, one, p, one))
		expect(t, "Draw", Draw(x, one, one, p.adrs()), ruledSum(x, one, p, one))
		expect(t, "Public", Public(x, one, one, p.adrs()), ruledPublic(x, one, one, p))
		expect(t, "Sign", Sign(x, one, one, one, p.adrs()), ruledSign(x, one, one, one, p))
		expect(t, "Candidate", Candidate(x, b, one, one, p.adrs()), ruledCandidate(x, b, one, one, p))
	}
}

// Calls at the same time, of several kinds, tell what each tells alone.
func TestCallsAtTheSameTime(t *testing.T) {
	p := ruledPlace{layer: 1, treeLow: 2, first: 3}
	for _, x := range ruledKinds() {
		for i := range 4 {
			t.Run("", func(t *testing.T) {
				t.Parallel()
				secret, pub, text := drawnBytes(int64(i), x.N), drawnBytes(5, x.N), drawnBytes(6, x.N)
				expect(t, "Sign", Sign(x, text, secret, pub, p.adrs()), ruledSign(x, text, secret, pub, p))
			})
		}
	}
}
