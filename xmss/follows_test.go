package xmss

import (
	"bytes"
	"math/rand"
	"slices"
	"testing"

	"apostille/api"
)

// P18.4

// Trees at any place, and of any height, are right by their own tops.
func TestTheCandidateIsTheTop(t *testing.T) {
	t.Parallel()
	r := rand.New(rand.NewSource(1841))
	for h := 1; h <= 5; h++ {
		for _, x := range ruledKinds(h, 1) {
			a := drawnPlace(r).adrs()
			secret, pub, text := drawnKey(x, r.Int63())
			top := Node(x, secret, pub, a, h, 0)
			if len(top) != x.N {
				t.Fatalf("%v: a top of %d bytes", x, len(top))
			}
			for leaf := range uint64(1) << h {
				sig := Sign(x, text, secret, pub, a, leaf)
				expect(t, "Candidate of what is signed", Candidate(x, sig, text, pub, a, leaf), top)
				if h > 2 && leaf >= 4 {
					break
				}
			}
		}
	}
}

// All trees in trees are right by the one top of layer D - 1.
func TestWhatHyperTellsIsRight(t *testing.T) {
	t.Parallel()
	r := rand.New(rand.NewSource(1842))
	for _, of := range [][2]int{{1, 1}, {1, 2}, {1, 7}, {1, 33}, {2, 1}, {2, 3}, {3, 1}, {3, 4}, {4, 2}} {
		for _, x := range ruledKinds(of[0], of[1]) {
			secret, pub, _ := drawnKey(x, r.Int63())
			top := Node(x, secret, pub, ruledPlace{layer: uint32(x.D - 1)}.adrs(), of[0], 0)
			for _, tree := range treesOf(r, x)[1:] {
				_, _, text := drawnKey(x, r.Int63())
				leaf := r.Uint64() % (1 << of[0])
				sig := Hyper(x, text, secret, pub, tree, leaf)
				expectVerify(t, "what is signed", x, text, sig, pub, top, tree, leaf, true)
			}
		}
	}
}

// Another text, leaf or place, other bytes that all know, or a signature that is spoilt anywhere, leads to another top.
func TestTheCandidateOfAnythingElseIsAnother(t *testing.T) {
	t.Parallel()
	for _, x := range ruledKinds(2, 1) {
		secret, pub, text := drawnKey(x, 1843)
		at := ruledPlace{layer: 1, treeLow: 2}.adrs()
		top, sig := Node(x, secret, pub, at, 2, 0), Sign(x, text, secret, pub, at, 2)
		differs := func(what string, sig, text, pub []byte, a api.Adrs, leaf uint64) {
			t.Helper()
			if got := Candidate(x, sig, text, pub, a, leaf); len(got) != x.N || bytes.Equal(got, top) {
				t.Errorf("%v, another %s: %x", x, what, got)
			}
		}
		for i := 0; i < 8*x.N; i += 5 {
			differs("text", sig, flipped(text, i), pub, at, 2)
			differs("sum's beginning", sig, text, flipped(pub, i), at, 2)
		}
		for _, i := range []int{3, 8, 11, 15} {
			differs("place", sig, text, pub, api.Adrs(flipped(at[:], 8*i+i%8)), 2)
		}
		for _, leaf := range []uint64{0, 1, 3} {
			differs("leaf", sig, text, pub, at, leaf)
		}
		for i := 0; i < len(sig); i += 17 {
			differs("signature", flipped(sig, 8*i+i%8), text, pub, at, 2)
		}
		differs("secret", Sign(x, text, flipped(secret, 100), pub, at, 2), text, pub, at, 2)
	}
}

// Rule 0.5

// roomy is bytes that have room behind them, which an append would write to.
func roomy(b []byte) []byte {
	return slices.Concat(b, drawnBytes(9, 200))[:len(b)]
}

// whole is bytes with all the room behind them.
func whole(b []byte) []byte {
	return b[:cap(b)]
}

// What goes in is not changed, what comes out is new memory, and nothing is kept.
func TestNothingShared(t *testing.T) {
	a := drawnPlace(rand.New(rand.NewSource(1844))).adrs()
	for _, x := range ruledKinds(2, 2) {
		secret, pub, text := drawnKey(x, 1845)
		secret, pub, text = roomy(secret), roomy(pub), roomy(text)
		sig, all := roomy(Sign(x, text, secret, pub, a, 3)), roomy(Hyper(x, text, secret, pub, 2, 3))
		top := roomy(Node(x, secret, pub, ruledPlace{layer: 1}.adrs(), 2, 0))
		given := [][]byte{whole(secret), whole(pub), whole(text), whole(sig), whole(all), whole(top)}
		var was [][]byte
		for _, b := range given {
			was = append(was, slices.Clone(b))
		}
		calls := func() [][]byte {
			expectVerify(t, "what is signed", x, text, all, pub, top, 2, 3, true)
			return [][]byte{Node(x, secret, pub, a, 0, 1), Node(x, secret, pub, a, 2, 0), Sign(x, text, secret, pub, a, 3), Candidate(x, sig, text, pub, a, 3), Hyper(x, text, secret, pub, 2, 3)}
		}
		told := calls()
		var want [][]byte
		for _, out := range told {
			want = append(want, slices.Clone(out))
			for i := range whole(out) {
				whole(out)[i]++
			}
		}
		if !slices.EqualFunc(given, was, bytes.Equal) {
			t.Errorf("%v: an argument was changed", x)
		}
		if !slices.EqualFunc(calls(), want, bytes.Equal) {
			t.Errorf("%v: the second time something else is told", x)
		}
	}
}

// One text in the place of several.
func TestOneTextForSeveral(t *testing.T) {
	p := ruledPlace{layer: 7, treeLow: 8}
	for _, x := range ruledKinds(1, 2) {
		b := drawnBytes(1846, 2*Size(x))
		one, sig := b[:x.N], b[:Size(x)]
		rows := ruledTree(x, one, one, p)
		expect(t, "Node", Node(x, one, one, p.adrs(), 1, 0), rows[1][0])
		expect(t, "Sign", Sign(x, one, one, one, p.adrs(), 1), ruledSign(x, rows, one, one, one, p, 1))
		expect(t, "Candidate", Candidate(x, sig, one, one, p.adrs(), 1), ruledCandidate(x, sig, one, one, p, 1))
		want, top := ruledHyper(x, one, one, one, 1, 0)
		expect(t, "Hyper", Hyper(x, one, one, one, 1, 0), want)
		expectVerify(t, "what is signed", x, one, want, one, top, 1, 0, true)
		expectVerify(t, "one text for all", x, one, b, one, one, 1, 0, false)
	}
}

// Calls at the same time, of several kinds, tell what each tells alone.
func TestCallsAtTheSameTime(t *testing.T) {
	for _, x := range ruledKinds(2, 3) {
		for i := range 4 {
			t.Run("", func(t *testing.T) {
				t.Parallel()
				secret, pub, text := drawnKey(x, int64(i))
				want, _ := ruledHyper(x, text, secret, pub, uint64(i), 3)
				expect(t, "Hyper", Hyper(x, text, secret, pub, uint64(i), 3), want)
			})
		}
	}
}
