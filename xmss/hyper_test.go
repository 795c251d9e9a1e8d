package xmss

import (
	"bytes"
	"math"
	"math/rand"
	"slices"
	"testing"

	"apostille/api"
)

// P18.3

// expectVerify fails unless Verify told this.
func expectVerify(t *testing.T, what string, x api.Slh, text, sig, pub, top []byte, tree, leaf uint64, want bool) {
	t.Helper()
	if got := Verify(x, text, sig, pub, top, tree, leaf); got != want {
		t.Errorf("%v, tree %#x, leaf %d, %s: %v", x, tree, leaf, what, got)
	}
}

// Every tree and leaf of a small kind.
func TestHyperOfEachLeaf(t *testing.T) {
	t.Parallel()
	for i, x := range []api.Slh{
		{N: 16, H: 1, D: 1, A: 1, K: 1}, {N: 16, H: 3, D: 1, A: 1, K: 1, Shake: true}, {N: 16, H: 2, D: 2, A: 1, K: 1}, {N: 16, H: 4, D: 2, A: 1, K: 1},
		{N: 24, H: 3, D: 3, A: 1, K: 1}, {N: 24, H: 4, D: 4, A: 1, K: 1, Shake: true}, {N: 32, H: 4, D: 2, A: 1, K: 1}, {N: 32, H: 3, D: 3, A: 1, K: 1, Shake: true},
	} {
		secret, pub, text := drawnKey(x, int64(i))
		h := x.H / x.D
		for tree := range uint64(1) << (x.H - h) {
			for leaf := range uint64(1) << h {
				want, top := ruledHyper(x, text, secret, pub, tree, leaf)
				sig := Hyper(x, text, secret, pub, tree, leaf)
				expect(t, "Hyper", sig, want)
				expectVerify(t, "what is signed", x, text, sig, pub, top, tree, leaf, true)
			}
		}
	}
}

// treesOf is numbers of layer 0's trees: the ends of those that there are, ones whose bits are unlike, and such as are drawn.
func treesOf(r *rand.Rand, x api.Slh) []uint64 {
	var most uint64 = math.MaxUint64
	if bits := x.H - x.H/x.D; bits < 64 {
		most = 1<<bits - 1
	}
	return []uint64{0, most, 0x5555555555555555 & most, r.Uint64() & most}
}

// Trees in however many layers, up to such as are more than numbers of 64 bits tell.
func TestHyper(t *testing.T) {
	t.Parallel()
	r := rand.New(rand.NewSource(1831))
	for _, x := range []api.Slh{
		{N: 16, H: 68, D: 68}, {N: 16, H: 66, D: 66, Shake: true}, {N: 24, H: 65, D: 65}, {N: 32, H: 64, D: 64}, {N: 16, H: 66, D: 33}, {N: 16, H: 64, D: 32},
		{N: 24, H: 60, D: 20}, {N: 16, H: 20, D: 5, Shake: true}, {N: 32, H: 15, D: 3}, {N: 16, H: 12, D: 2}, {N: 16, H: 18, D: 2},
	} {
		x.A, x.K = 1, 1
		for _, tree := range treesOf(r, x)[1:3] {
			secret, pub, text := drawnKey(x, r.Int63())
			leaf := r.Uint64() % (1 << (x.H / x.D))
			want, top := ruledHyper(x, text, secret, pub, tree, leaf)
			sig := Hyper(x, text, secret, pub, tree, leaf)
			expect(t, "Hyper", sig, want)
			if len(sig) != x.D*Size(x) {
				t.Errorf("%v: %d bytes", x, len(sig))
			}
			expectVerify(t, "what is signed", x, text, sig, pub, top, tree, leaf, true)
		}
	}
}

// Any bytes of the length are right by the top to which they lead, and by no other.
func TestVerify(t *testing.T) {
	t.Parallel()
	r := rand.New(rand.NewSource(1832))
	for h := 1; h <= 9; h++ {
		for _, layers := range []int{1, 2, 34/h + 1} {
			for _, x := range ruledKinds(h, layers) {
				for _, tree := range treesOf(r, x)[1:3] {
					_, pub, text := drawnKey(x, r.Int63())
					leaf := r.Uint64() % (1 << h)
					sig := drawnBytes(r.Int63(), x.D*Size(x))
					top := ruledTop(x, text, sig, pub, tree, leaf)
					expectVerify(t, "the top it leads to", x, text, sig, pub, top, tree, leaf, true)
					expectVerify(t, "another top", x, text, sig, pub, flipped(top, r.Intn(8*x.N)), tree, leaf, false)
				}
			}
		}
	}
}

// A tree's number that is none, just behind the last one and far from it.
func TestTreesThatAreNone(t *testing.T) {
	t.Parallel()
	for h := 1; h <= 9; h++ {
		for _, d := range []int{1, 2, 3, 33 / h, 63/h + 1} { // the last one is the most trees of which numbers of 64 bits tell more
			if d*h > 68 {
				continue
			}
			x := api.Slh{N: 16, H: d * h, D: d, A: 1, K: 1, Shake: d%2 == 0}
			secret, pub, text := drawnKey(x, 1833)
			sig := drawnBytes(1834, d*Size(x))
			count := uint64(1) << (x.H - h)
			for _, tree := range append(slices.Clone(edges), count, count+1, 2*count, count+1<<32, count+1<<63) {
				if tree < count { // it is one, or has wrapped round to one
					continue
				}
				expectNone(t, "Hyper by no tree", Hyper(x, text, secret, pub, tree, 0))
				expectVerify(t, "no tree", x, text, sig, pub, ruledTop(x, text, sig, pub, tree, 0), tree, 0, false)
			}
			top := ruledTop(x, text, sig, pub, count-1, 0)
			expectVerify(t, "the last tree", x, text, sig, pub, top, count-1, 0, true)
		}
	}
}

// A leaf that is none isn't one of another tree.
func TestLeavesDoNotGoOnInTrees(t *testing.T) {
	x := api.Slh{N: 16, H: 6, D: 3, A: 1, K: 1}
	secret, pub, text := drawnKey(x, 1835)
	for tree := range uint64(16) {
		for leaf := uint64(4); leaf < 70; leaf++ {
			expectNone(t, "Hyper by no leaf", Hyper(x, text, secret, pub, tree, leaf))
		}
		sig := drawnBytes(1836, 3*Size(x))
		expectVerify(t, "no leaf", x, text, sig, pub, ruledTop(x, text, sig, pub, tree, 4), tree, 4, false)
	}
}

// Whatever number of bytes a signature has, one alone is right; and likewise a top.
func TestVerifyOfAnyLength(t *testing.T) {
	t.Parallel()
	for _, x := range ruledKinds(1, 2) {
		secret, pub, text := drawnKey(x, 1837)
		sig, top := ruledHyper(x, text, secret, pub, 1, 0)
		long := slices.Concat(sig, sig)
		for size := range long {
			expectVerify(t, "a signature of any length", x, text, long[:size], pub, top, 1, 0, size == 2*Size(x))
		}
		for _, size := range []int{0, 1, x.N - 1, x.N, x.N + 1, 16, 24, 32, 64, 2 * x.N} {
			expectVerify(t, "a top of any length", x, text, sig, pub, slices.Concat(top, top, top, top)[:size], 1, 0, size == x.N)
		}
		expectVerify(t, "no top", x, text, sig, pub, nil, 1, 0, false)
		expectVerify(t, "a top with a byte 0", x, text, sig, pub, append(slices.Clone(top), 0), 1, 0, false)
	}
}

// Whatever is another one: a text, a place, what all know, each tree's leaf or neighbour, or their order.
func TestVerifyOfWhatIsSpoilt(t *testing.T) {
	t.Parallel()
	for _, x := range ruledKinds(2, 3) {
		secret, pub, text := drawnKey(x, 1838)
		tree, leaf := uint64(9), uint64(2)
		sig, top := ruledHyper(x, text, secret, pub, tree, leaf)
		expectVerify(t, "what is signed", x, text, sig, pub, top, tree, leaf, true)
		for i := 0; i < 8*x.N; i += 5 {
			expectVerify(t, "another top", x, text, sig, pub, flipped(top, i), tree, leaf, false)
			if i%3 == 0 {
				expectVerify(t, "another text", x, flipped(text, i), sig, pub, top, tree, leaf, false)
				expectVerify(t, "another sum's beginning", x, text, sig, flipped(pub, i), top, tree, leaf, false)
			}
		}
		for i := range uint64(16) {
			for j := range uint64(4) {
				expectVerify(t, "another tree or leaf", x, text, sig, pub, top, i, j, i == tree && j == leaf)
			}
		}
		for i := 0; i < len(sig); i += 2*x.N - 3 {
			expectVerify(t, "another signature", x, text, flipped(sig, 8*i+i%8), pub, top, tree, leaf, false)
		}
		parts := slices.Collect(slices.Chunk(sig, Size(x)))
		for _, order := range [][3]int{{0, 2, 1}, {1, 0, 2}, {2, 1, 0}, {1, 2, 0}, {0, 0, 2}, {0, 1, 1}} {
			moved := slices.Concat(parts[order[0]], parts[order[1]], parts[order[2]])
			expectVerify(t, "trees in another order", x, text, moved, pub, top, tree, leaf, false)
		}
		other := x
		other.Shake = !x.Shake
		expectVerify(t, "another kind", other, text, sig, pub, top, tree, leaf, false)
	}
}

// A kind's part that signs a few times is nothing to its trees.
func TestKindsOfOneTree(t *testing.T) {
	for _, x := range ruledKinds(2, 2) {
		secret, pub, text := drawnKey(x, 1839)
		other := x
		other.A, other.K = 14, 40
		sig := Hyper(x, text, secret, pub, 3, 1)
		if !bytes.Equal(Hyper(other, text, secret, pub, 3, 1), sig) || Size(other) != Size(x) {
			t.Errorf("%v and %v tell unlike signatures", x, other)
		}
		top := Node(other, secret, pub, ruledPlace{layer: 1}.adrs(), 2, 0)
		expectVerify(t, "another few-times part", other, text, sig, pub, top, 3, 1, true)
	}
}

// A text of another length is told false for its length, whatever its sums would lead to.
func TestVerifyOfTextsOfAnyLength(t *testing.T) {
	for _, x := range ruledKinds(2, 1) {
		_, pub, _ := drawnKey(x, 1840)
		sig, long := drawnBytes(1841, Size(x)), drawnBytes(1842, 100)
		for size := range long {
			top := climber{x, pub, api.Adrs{}}.top(sig, long[:size], 1)
			expectVerify(t, "a text of any length", x, long[:size], sig, pub, top, 0, 1, size == x.N)
		}
	}
}

// Whoever has seen enough layers may stop.
func TestLayersUpToAny(t *testing.T) {
	x := api.Slh{N: 16, H: 9, D: 3, A: 1, K: 1}
	for most := 1; most <= 3; most++ {
		var places []api.Adrs
		var leaves []uint64
		for at, leaf := range layers(x, 0x1d, 6) {
			places, leaves = append(places, at), append(leaves, leaf)
			if len(places) == most {
				break
			}
		}
		want := []api.Adrs{ruledPlace{treeLow: 0x1d}.adrs(), ruledPlace{layer: 1, treeLow: 3}.adrs(), ruledPlace{layer: 2}.adrs()}
		if !slices.Equal(places, want[:most]) || !slices.Equal(leaves, []uint64{6, 5, 3}[:most]) {
			t.Errorf("%d layers: %x, leaves %d", most, places, leaves)
		}
	}
}
