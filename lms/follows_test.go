package lms

import (
	"bytes"
	"math/rand"
	"slices"
	"testing"

	"apostille/api"
)

// P15.5

// Each leaf of a tree signs so that it is right by the tree's key, and by no other tree's.
func TestWhatIsSignedIsRight(t *testing.T) {
	t.Parallel()
	r := rand.New(rand.NewSource(155))
	for _, k := range ruledKinds(3) {
		id, seed, other := drawnBytes(r.Int63(), 16), drawnBytes(r.Int63(), 32), drawnBytes(r.Int63(), 32)
		public, e := Public(k.Tree, id, seed)
		if e != api.OK || len(public) != 56 {
			t.Fatalf("Public: %d bytes, %v", len(public), e)
		}
		others, _ := Public(k.Tree, id, other)
		for q := range uint32(1) << k.H {
			text := drawnBytes(r.Int63(), r.Intn(300))
			sig, e := Sign(k.Tree, id, seed, q, text)
			if e != api.OK {
				t.Fatalf("Sign: %v", e)
			}
			expectVerify(t, "what is signed", public, text, sig, api.OK)
			expectVerify(t, "by another tree", others, text, sig, api.ErrSig)
			expectVerify(t, "with a byte more", public, append(text, 0), sig, api.ErrSig)
			expectCut(t, slices.Concat(sig, public), sig, k.Tree, public)
		}
	}
}

// What is signed by leaves of two trees is right by the key of its own one alone.
func TestTheSameTextByUnlikeTrees(t *testing.T) {
	t.Parallel()
	k, text := ruledKindOf(2, 4), []byte("text")
	var publics, sigs [][]byte
	for i := range int64(4) {
		id, seed := drawnBytes(900+i/2, 16), drawnBytes(910+i%2, 32)
		public, _ := Public(k.Tree, id, seed)
		sig, _ := Sign(k.Tree, id, seed, 2, text)
		publics, sigs = append(publics, public), append(sigs, sig)
	}
	for i, public := range publics {
		for j, sig := range sigs {
			want := api.ErrSig
			if i == j {
				want = api.OK
			}
			expectVerify(t, "by a tree", public, text, sig, want)
		}
	}
}

// Neither of two signatures by unlike leaves, or of unlike kinds, is what the other one begins with, though all else is the same.
func TestUnlikeSignaturesBeginWithOtherBytes(t *testing.T) {
	t.Parallel()
	text := []byte("one text")
	type made struct {
		api.Tree
		q   uint32
		sig []byte
	}
	var l []made
	for _, k := range ruledKinds(5) {
		for q := range min(1<<k.H, 3) {
			sig, e := Sign(k.Tree, sixteen, thirtyTwo, uint32(q), text)
			if e != api.OK {
				t.Fatalf("Sign: %v", e)
			}
			l = append(l, made{k.Tree, uint32(q), sig})
		}
	}
	for i, a := range l {
		for _, b := range l[:i] {
			if a.q != b.q && bytes.Equal(a.sig[:4], b.sig[:4]) {
				t.Errorf("%d and %d begin with the same bytes", a.q, b.q)
			}
			if bytes.HasPrefix(a.sig, b.sig) || bytes.HasPrefix(b.sig, a.sig) {
				t.Errorf("%v by %d and %v by %d begin with the same bytes", a.Tree, a.q, b.Tree, b.q)
			}
		}
	}
}

// Rule 0.5

// What goes in is not changed, what comes out is new memory, no two texts of one answer share any, and nothing is kept.
func TestNothingShared(t *testing.T) {
	for _, k := range []ruledKind{ruledKindOf(2, 8), ruledKindOf(3, 1)} {
		// There is room behind what is given, which an append would write to.
		given := [][]byte{drawnBytes(1, 60), drawnBytes(2, 90), drawnBytes(3, 90), nil, nil}
		id, seed, text := given[0][:16], given[1][:32], given[2][:40]
		sums := ruledTree(k, id, seed)
		given[3] = slices.Concat(ruledSign(k, sums, id, seed, 3, text), drawnBytes(5, 64))
		given[4] = slices.Concat(k.key(id, sums[1]), drawnBytes(6, 64))
		sig, public := given[3][:k.size()], given[4][:56]
		var was [][]byte
		for _, b := range given {
			was = append(was, slices.Clone(b))
		}
		calls := func() [][]byte {
			key, _ := Public(k.Tree, id, seed)
			made, _ := Sign(k.Tree, id, seed, 3, text)
			cut, _, behind, _ := Cut(given[3][:k.size()+20])
			whole, _, _, _ := Cut(sig)
			expectVerify(t, "Verify", public, text, sig, api.OK)
			return [][]byte{key, made, cut, behind, whole}
		}
		told := calls()
		var want [][]byte
		for _, out := range told {
			want = append(want, slices.Clone(out))
		}
		for i, out := range told {
			scribble(out[:cap(out)])
			for j := i + 1; j < len(told); j++ {
				if !bytes.Equal(told[j], want[j]) {
					t.Errorf("%v: what is told shares memory", k.Tree)
				}
			}
		}
		if !slices.EqualFunc(given, was, bytes.Equal) {
			t.Errorf("%v: an argument was changed", k.Tree)
		}
		if again := calls(); !slices.EqualFunc(again, want, bytes.Equal) {
			t.Errorf("%v: the second time something else is told", k.Tree)
		}
	}
}

// One text in the place of several.
func TestOneTextForSeveral(t *testing.T) {
	k := ruledKindOf(2, 4)
	seed := drawnBytes(6, 32)
	id := seed[:16]
	sums := ruledTree(k, id, seed)
	public, e := Public(k.Tree, id, seed)
	expect(t, "Public", public, e, k.key(id, sums[1]))
	for _, text := range [][]byte{seed, id, public} {
		sig, e := Sign(k.Tree, id, seed, 1, text)
		expect(t, "Sign", sig, e, ruledSign(k, sums, id, seed, 1, text))
		expectVerify(t, "Verify", public, text, sig, api.OK)
		expectVerify(t, "Verify of itself", public, sig, sig, api.ErrSig)
	}
}

// Whatever bytes come, a call ends and tells an error, or that which they are.
func TestWhateverComes(t *testing.T) {
	r := rand.New(rand.NewSource(156))
	kinds := ruledKinds(25)
	for range 4000 {
		k, other := kinds[r.Intn(len(kinds))], kinds[r.Intn(len(kinds))]
		b := drawnSignature(k, r.Uint32()>>r.Intn(32), r.Int63())
		for range r.Intn(3) {
			b = flipped(b, r.Intn(8*min(len(b), 12)))
		}
		b = b[:len(b)-r.Intn(3)*r.Intn(len(b))/2]
		sig, kind, behind, e := Cut(b)
		switch {
		case e == api.OK && (len(sig) != Size(kind) || !bytes.Equal(slices.Concat(sig, behind), b)):
			t.Errorf("Cut of %d bytes: %d of %v, and %d", len(b), len(sig), kind, len(behind))
		case e != api.OK && e != api.ErrForm && e != api.ErrAlg:
			t.Errorf("Cut: %v", e)
		}
		if got := Verify(other.key(sixteen, thirtyTwo), nil, b); got == api.OK || e != api.OK && got != e {
			t.Errorf("Verify: %v, though Cut tells %v", got, e)
		}
	}
}

// scribble changes every byte.
func scribble(b []byte) {
	for i := range b {
		b[i]++
	}
}
