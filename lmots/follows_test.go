package lmots

import (
	"bytes"
	"math/rand"
	"slices"
	"testing"

	"apostille/api"
)

// P14.4

func TestTheCandidateIsPublic(t *testing.T) {
	r := rand.New(rand.NewSource(144))
	for _, k := range ruledKinds {
		for range 60 {
			id, q, seed := drawnBytes(r.Int63(), 16), r.Uint32(), drawnBytes(r.Int63(), 32)
			text := drawnBytes(r.Int63(), r.Intn(300))
			want, e := Public(k.w, id, q, seed)
			if e != api.OK || len(want) != 32 {
				t.Fatalf("Public: %d bytes, %v", len(want), e)
			}
			sig, e := Sign(k.w, id, q, seed, text)
			if e != api.OK {
				t.Fatalf("Sign: %v", e)
			}
			got, e := Candidate(k.w, id, q, text, sig)
			expect(t, "Candidate of what is signed", got, e, want)
		}
	}
}

// Another text, leaf, tree or seed, or a signature that is spoilt anywhere, has another candidate.
func TestTheCandidateOfAnythingElseIsAnother(t *testing.T) {
	text := []byte("one text, which is signed")
	for _, k := range ruledKinds {
		public, _ := Public(k.w, sixteen, 7, thirtyTwo)
		sig, _ := Sign(k.w, sixteen, 7, thirtyTwo, text)
		differs := func(what string, id []byte, q uint32, text, sig []byte) {
			t.Helper()
			got, e := Candidate(k.w, id, q, text, sig)
			if e != api.OK || len(got) != 32 || bytes.Equal(got, public) {
				t.Errorf("w %d, another %s: %x, %v", k.w, what, got, e)
			}
		}
		for i := range 8 * len(text) {
			differs("text", sixteen, 7, flipped(text, i), sig)
		}
		differs("text", sixteen, 7, text[1:], sig)
		differs("text", sixteen, 7, append(slices.Clone(text), 0), sig)
		for i := range 128 {
			differs("tree", flipped(sixteen, i), 7, text, sig)
		}
		for i := range 32 {
			differs("leaf", sixteen, 7^1<<i, text, sig)
		}
		for at := 4; at < len(sig); at += 13 {
			differs("signature", sixteen, 7, text, flipped(sig, 8*at+at%8))
		}
		other, _ := Sign(k.w, sixteen, 7, flipped(thirtyTwo, 100), text)
		differs("seed", sixteen, 7, text, other)
	}
}

// flipped is a text one of whose bits is another one.
func flipped(b []byte, bit int) []byte {
	out := slices.Clone(b)
	out[bit/8] ^= 1 << (bit % 8)
	return out
}

// P14.5

// expectCheck fails unless each of two digests has a digit that is less than the other's.
func expectCheck(t *testing.T, w int, a, b []byte) {
	t.Helper()
	da, e := Digits(w, a)
	db, f := Digits(w, b)
	if e != api.OK || f != api.OK || len(da) != len(db) {
		t.Fatalf("Digits of %d: %d digits, %v, and %d digits, %v", w, len(da), e, len(db), f)
	}
	less, more := false, false
	for i := range da {
		less = less || da[i] < db[i]
		more = more || da[i] > db[i]
	}
	if !less || !more {
		t.Errorf("w %d: of %x and %x one can be gone on from to the other", w, a, b)
	}
}

func TestUnlikeDigestsHaveLesserDigits(t *testing.T) {
	r := rand.New(rand.NewSource(145))
	least, most := make([]byte, 32), bytes.Repeat([]byte{255}, 32)
	for _, k := range ruledKinds {
		expectCheck(t, k.w, least, most)
		for range 50 {
			digest := drawnBytes(r.Int63(), 32)
			expectCheck(t, k.w, digest, drawnBytes(r.Int63(), 32))
			expectCheck(t, k.w, digest, least)
			expectCheck(t, k.w, digest, most)
		}
		for i := range 256 {
			for _, digest := range [][]byte{least, most, drawnBytes(r.Int63(), 32)} {
				expectCheck(t, k.w, digest, flipped(digest, i))
			}
		}
	}
}

// The hardest to tell apart: all digits of one are at least the other's, by however little or much, so that the check alone is less.
func TestTheCheckTellsWhatGoesOn(t *testing.T) {
	r := rand.New(rand.NewSource(146))
	for _, k := range ruledKinds {
		for range 2000 {
			digest := drawnBytes(r.Int63(), 32)
			on := slices.Clone(digest)
			for range 1 + r.Intn(40) {
				i := r.Intn(256)
				on[i/8] |= 1 << (i % 8)
			}
			if !bytes.Equal(on, digest) {
				expectCheck(t, k.w, digest, on)
			}
		}
	}
}

// Every sum that a check can be, one behind the other: digits go up by one each, and the check's digits never all stay or go up.
func TestTheCheckOfEachSum(t *testing.T) {
	for _, k := range ruledKinds {
		digest := make([]byte, 32)
		ahead, _ := Digits(k.w, digest)
		for place := 256 - k.w; place >= 0; place -= k.w {
			for range 1<<k.w - 1 {
				on := slices.Clone(digest)
				on[place/8] += 1 << (8 - k.w - place%8)
				expectCheck(t, k.w, digest, on)
				next, _ := Digits(k.w, on)
				if slices.Compare(next[256/k.w:], ahead[256/k.w:]) >= 0 {
					t.Fatalf("w %d: the check of %x is not below that of %x", k.w, on, digest)
				}
				digest, ahead = on, next
			}
		}
		if !bytes.Equal(digest, bytes.Repeat([]byte{255}, 32)) {
			t.Errorf("w %d: not all sums were gone through", k.w)
		}
	}
}

// Rule 0.5: what goes in is not changed, what comes out is new memory, and nothing is kept.
func TestNothingShared(t *testing.T) {
	for _, k := range ruledKinds {
		// There is room behind what is given, which an append would write to.
		given := [][]byte{drawnBytes(1, 60), drawnBytes(2, 90), drawnBytes(3, 90), drawnBytes(4, 90), nil}
		id, seed, text, digest := given[0][:16], given[1][:32], given[2][:40], given[3][:32]
		given[4] = slices.Concat(ruledSign(k, id, 8, seed, text), drawnBytes(5, 64))
		sig := given[4][:Size(k.w)]
		var was [][]byte
		for _, b := range given {
			was = append(was, slices.Clone(b))
		}
		calls := func() ([][]byte, []uint32) {
			public, _ := Public(k.w, id, 8, seed)
			made, _ := Sign(k.w, id, 8, seed, text)
			candidate, _ := Candidate(k.w, id, 8, text, sig)
			digits, _ := Digits(k.w, digest)
			return [][]byte{public, made, candidate}, digits
		}
		told, digits := calls()
		var want [][]byte
		for _, out := range told {
			want = append(want, slices.Clone(out))
			scribble(out[:cap(out)])
		}
		wantDigits := slices.Clone(digits)
		scribble(digits[:cap(digits)])
		if !slices.EqualFunc(given, was, bytes.Equal) {
			t.Errorf("w %d: an argument was changed", k.w)
		}
		again, digits := calls()
		if !slices.EqualFunc(again, want, bytes.Equal) || !slices.Equal(digits, wantDigits) {
			t.Errorf("w %d: the second time something else is told", k.w)
		}
	}
}

// One text in the place of several.
func TestOneTextForSeveral(t *testing.T) {
	for _, k := range ruledKinds {
		seed := drawnBytes(6, 32)
		id := seed[:16]
		public, e := Public(k.w, id, 2, seed)
		expect(t, "Public", public, e, ruledPublic(k, id, 2, seed))
		sig, e := Sign(k.w, id, 2, seed, seed)
		expect(t, "Sign", sig, e, ruledSign(k, id, 2, seed, seed))
		got, e := Candidate(k.w, id, 2, seed, sig)
		expect(t, "Candidate", got, e, public)
		got, e = Candidate(k.w, id, 2, sig, sig)
		expect(t, "Candidate", got, e, ruledCandidate(k, id, 2, sig, sig))
	}
}

// scribble changes every item.
func scribble[T byte | uint32](l []T) {
	for i := range l {
		l[i]++
	}
}
