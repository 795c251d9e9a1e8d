package hss

import (
	"bytes"
	"math/rand"
	"slices"
	"testing"

	"apostille/api"
)

// P16.4

// What each number signs is right by the key, and by no other key.
func TestWhatIsSignedIsRight(t *testing.T) {
	t.Parallel()
	r := rand.New(rand.NewSource(164))
	for _, l := range [][]int{{3, 2}, {1, 1, 2, 1}, {2, 2, 1, 4, 1, 1}, {1, 8, 1, 1}} {
		k, other, another := keyOf(r.Int63n(1000), l...), keyOf(r.Int63n(1000), l...), keyOf(r.Int63n(1000), append(l, 1, 1)...)
		public, e := Public(k)
		if e != api.OK || len(public) != 60 {
			t.Fatalf("Public: %d bytes, %v", len(public), e)
		}
		others, _ := Public(other)
		anothers, _ := Public(another)
		for n := range Leaves(k) {
			text := drawnBytes(r.Int63(), r.Intn(300))
			sig, e := Sign(k, n, text)
			if e != api.OK {
				t.Fatalf("Sign: %v", e)
			}
			expectVerify(t, "what is signed", public, text, sig, api.OK)
			expectVerify(t, "by another key", others, text, sig, api.ErrSig)
			expectVerify(t, "by a key of more trees", anothers, text, sig, api.ErrForm)
			expectVerify(t, "with a byte more", public, append(text, 0), sig, api.ErrSig)
		}
	}
}

// Keys that have another id or seed, or trees of another kind above, have other trees below; those that are unlike below alone have the same ones above.
func TestUnlikeKeys(t *testing.T) {
	t.Parallel()
	k := keyOf(1, 2, 1, 2, 1)
	id, seed, below := k, k, k
	id.Id, seed.Seed, below.Trees = flipped(k.Id, 127), flipped(k.Seed, 255), treesOf(2, 1, 2, 2)
	keys := []api.HssKey{k, id, seed, below}
	for i, k := range keys {
		sig, _ := Sign(k, 6, []byte("text"))
		for j, other := range keys {
			public, _ := Public(other)
			want := api.ErrSig
			if i == j || i+j == 3 && i*j == 0 {
				want = api.OK // a key to verify by says nothing of the kinds below
			}
			expectVerify(t, "by a key", public, []byte("text"), sig, want)
		}
	}
}

// P16.5

// The leaves that a number uses are unlike any other number's, and there are as many of them as there can be.
func TestEachVectorHasOneNumber(t *testing.T) {
	for _, l := range [][]int{{1, 8}, {5, 8}, {1, 8, 1, 8}, {2, 8, 3, 8}, {3, 8, 2, 8}, {4, 8, 1, 8, 5, 8}, {1, 8, 2, 8, 1, 8, 3, 8}, {1, 1, 1, 1, 1, 1, 1, 1, 1, 1, 1, 1, 1, 1, 1, 1}, {10, 8, 1, 8}} {
		k := keyOf(3, l...)
		ahead := []uint32(nil)
		for n := range Leaves(k) {
			leaves, e := Vector(k, n)
			if e != api.OK || len(leaves) != len(k.Trees) {
				t.Fatalf("Vector: %v, %v", leaves, e)
			}
			for i, q := range leaves {
				if q >= 1<<k.Trees[i].H {
					t.Errorf("%v: there is no leaf %d of tree %d", k.Trees, q, i)
				}
			}
			if slices.Compare(ahead, leaves) >= 0 {
				t.Fatalf("%v: %v comes behind %v", k.Trees, leaves, ahead) // so none comes twice
			}
			ahead = leaves
		}
	}
}

// Numbers of high keys, and the leaves that they tell, there and back.
func TestNumbersOfVectors(t *testing.T) {
	r := rand.New(rand.NewSource(165))
	for _, k := range highKeys() {
		for range 2000 {
			n := r.Uint64() % Leaves(k)
			leaves, e := Vector(k, n)
			var back uint64
			for i, q := range leaves {
				back = back<<k.Trees[i].H + uint64(q)
			}
			if e != api.OK || back != n {
				t.Errorf("Vector of %d: %v, %v", n, leaves, e)
			}
		}
	}
}

// The leaves that sign are those of the vector, and no two signatures are by the same ones of the same trees.
func TestSignaturesAreByTheVectorsLeaves(t *testing.T) {
	t.Parallel()
	k := keyOf(4, 1, 1, 2, 2, 1, 1)
	last := map[string]bool{}
	for n := range Leaves(k) {
		sig, _ := Sign(k, n, []byte("text"))
		expectVector(t, k, n, signers(t, sig))
		own := string(sig[len(sig)-8516-8-32-56:][:60]) // the key of the lowest tree, and its leaf
		if last[own] {
			t.Errorf("a leaf signs twice")
		}
		last[own] = true
	}
	if len(last) != 16 {
		t.Errorf("%d leaves", len(last))
	}
}

// Rule 0.5

// roomy is bytes that have room behind them, which an append would write to.
func roomy(b []byte) []byte {
	return slices.Concat(b, drawnBytes(9, 80))[:len(b)]
}

// whole is bytes with all the room behind them.
func whole(b []byte) []byte {
	return b[:cap(b)]
}

// What goes in is not changed, what comes out is new memory, and nothing is kept.
func TestNothingShared(t *testing.T) {
	t.Parallel()
	for _, l := range [][]int{{1, 2}, {1, 2, 2, 1, 1, 2}} {
		k := keyOf(5, l...)
		k.Trees = append(k.Trees, treesOf(1, 1, 5, 8)...)[:len(k.Trees)]
		k.Id, k.Seed = roomy(k.Id), roomy(k.Seed)
		text, sig := roomy([]byte("text")), roomy(ruledSign(k, 1, []byte("text")))
		public, _ := Public(k)
		public = roomy(public)
		given := [][]byte{whole(k.Id), whole(k.Seed), whole(text), whole(public), whole(sig)}
		var was [][]byte
		for _, b := range given {
			was = append(was, slices.Clone(b))
		}
		trees := slices.Clone(k.Trees[:cap(k.Trees)])
		calls := func() ([][]byte, []uint32) {
			key, _ := Public(k)
			made, _ := Sign(k, 1, text)
			leaves, _ := Vector(k, 1)
			if !Fit(k) || Leaves(k) == 0 {
				t.Errorf("%v is not fit", k.Trees)
			}
			expectVerify(t, "Verify", public, text, sig, api.OK)
			return [][]byte{key, made}, leaves
		}
		told, leaves := calls()
		want, leavesWant := [][]byte{slices.Clone(told[0]), slices.Clone(told[1])}, slices.Clone(leaves)
		for _, out := range told {
			for i := range whole(out) {
				whole(out)[i]++
			}
		}
		for i := range leaves {
			leaves[i]++
		}
		if !slices.EqualFunc(given, was, bytes.Equal) || !slices.Equal(k.Trees[:cap(k.Trees)], trees) {
			t.Errorf("%v: an argument was changed", k.Trees)
		}
		if again, leaves := calls(); !slices.EqualFunc(again, want, bytes.Equal) || !slices.Equal(leaves, leavesWant) {
			t.Errorf("%v: the second time something else is told", k.Trees)
		}
	}
}

// One text in the place of several.
func TestOneTextForSeveral(t *testing.T) {
	k := keyOf(6, 1, 2, 1, 2)
	k.Id = k.Seed[:16]
	public, _ := Public(k)
	for _, text := range [][]byte{k.Id, k.Seed, public} {
		sig, e := Sign(k, 3, text)
		expect(t, "Sign", sig, e, ruledSign(k, 3, text))
		expectVerify(t, "Verify", public, text, sig, api.OK)
		expectVerify(t, "Verify of itself", public, sig, sig, api.ErrSig)
	}
	expectVerify(t, "Verify of a key by itself", public, public, public, api.ErrForm)
}

// Whatever bytes come, Verify ends and tells an error of those that it may tell.
func TestWhateverComes(t *testing.T) {
	t.Parallel()
	r := rand.New(rand.NewSource(166))
	may := []api.Errno{api.ErrKey, api.ErrForm, api.ErrAlg, api.ErrSpent, api.ErrSig}
	for range 3000 {
		c := drawnChain(treesOf(slices.Repeat([]int{1, 2}, 1+r.Intn(3))...), nil, r.Int63n(9), nil)
		public, sig := c.public(), c.sig()
		for range 1 + r.Intn(3) {
			switch ends := c.ends(); r.Intn(5) {
			case 0:
				public = flipped(public, r.Intn(8*12))
			case 1:
				sig = flipped(sig, 8*ends[r.Intn(len(ends)-1)]+r.Intn(64))
			case 2:
				sig = flipped(sig, r.Intn(8*len(sig)))
			case 3:
				sig = sig[:len(sig)-r.Intn(len(sig)-ends[len(ends)-2])]
			case 4:
				sig = slices.Concat(sig, drawnBytes(r.Int63(), r.Intn(2000)))
			}
		}
		changed := !bytes.Equal(public, c.public()) || !bytes.Equal(sig, c.sig())
		if e := Verify(public, nil, sig); changed == (e == api.OK) || changed && !slices.Contains(may, e) {
			t.Errorf("Verify: %v, though it is changed: %v", e, changed)
		}
	}
	for range 3000 {
		b := drawnBytes(r.Int63(), r.Intn(3000))
		if e := Verify(with(drawnBytes(r.Int63(), 60), 0, four(1+r.Uint32()%8)), nil, b); !slices.Contains(may, e) {
			t.Errorf("Verify of drawn bytes: %v", e)
		}
	}
}
