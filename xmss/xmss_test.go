package xmss

import (
	"bytes"
	"math"
	"math/rand"
	"slices"
	"testing"

	"apostille/api"
)

// expect fails unless a call told these bytes.
func expect(t *testing.T, what string, got, want []byte) {
	t.Helper()
	if !bytes.Equal(got, want) {
		t.Errorf("%s: %x; want %x", what, short(got), short(want))
	}
}

// expectNone fails unless a call told nothing.
func expectNone(t *testing.T, what string, got []byte) {
	t.Helper()
	if got != nil {
		t.Errorf("%s: %d bytes; want none", what, len(got))
	}
}

// short is the first bytes of a text, as many as are worth a line.
func short(b []byte) []byte {
	return b[:min(len(b), 64)]
}

// edges is numbers beyond all trees, among them such that wrap round to some within.
var edges = []uint64{1 << 10, 1 << 16, 1<<31 - 1, 1 << 31, 1<<32 - 1, 1 << 32, 1<<32 + 1, 1 << 33, 1 << 55, 1 << 62, 1 << 63, 1<<63 + 1, math.MaxUint64 - 1, math.MaxUint64}

func TestTheChaptersExamples(t *testing.T) {
	x := api.Slh{N: 16, H: 2, D: 1, A: 1, K: 1}
	if got := Size(x); got != 592 {
		t.Errorf("Size: %d", got)
	}
	expectNone(t, "Node of height 3", Node(x, make([]byte, 16), make([]byte, 16), api.Adrs{}, 3, 0))
}

// P18.1: Size

func TestSize(t *testing.T) {
	count := 0
	for _, n := range []int{16, 24, 32} {
		for h := range 70 {
			for d := range 70 {
				want := 0
				if d > 0 && h > 0 && h%d == 0 && h/d <= 9 && h <= 68 {
					want = n * (2*n + 3 + h/d)
					count++
				}
				for _, shake := range []bool{false, true} {
					if got := Size(api.Slh{N: n, H: h, D: d, A: 14, K: 40, Shake: shake}); got != want {
						t.Errorf("Size of N %d, H %d, D %d: %d; want %d", n, h, d, got, want)
					}
				}
			}
		}
	}
	if count != 3*189 {
		t.Errorf("%d are fit", count)
	}
}

// The twelve kinds of the standard, written out.
func TestSizeOfTheStandards(t *testing.T) {
	for want, x := range map[int]api.Slh{
		704: {N: 16, H: 63, D: 7, A: 12, K: 14}, 608: {N: 16, H: 66, D: 22, A: 6, K: 33},
		1440: {N: 24, H: 63, D: 7, A: 14, K: 17}, 1296: {N: 24, H: 66, D: 22, A: 8, K: 33},
		2400: {N: 32, H: 64, D: 8, A: 14, K: 22}, 2272: {N: 32, H: 68, D: 17, A: 9, K: 35},
	} {
		for _, shake := range []bool{false, true} {
			x.Shake = shake
			if got := Size(x); got != want {
				t.Errorf("Size of %v: %d; want %d", x, got, want)
			}
		}
	}
}

// P18.1: Node

// Each knot of trees of each height but the greatest, at places with numbers of every part: those behind the tree count for nothing.
func TestNode(t *testing.T) {
	t.Parallel()
	r := rand.New(rand.NewSource(181))
	for h := 1; h <= 5; h++ {
		for _, x := range ruledKinds(h, 1+r.Intn(60/h)) {
			p := drawnPlace(r)
			secret, pub, _ := drawnKey(x, r.Int63())
			rows := ruledTree(x, secret, pub, p)
			for height, row := range rows {
				for i, want := range row {
					expect(t, "Node", Node(x, secret, pub, p.adrs(), height, uint64(i)), want)
				}
				for _, i := range append(slices.Clone(edges), uint64(len(row)), uint64(len(row)+1), uint64(2*len(row)), 1<<h, 1<<32+uint64(len(row)-1)) {
					if i >= uint64(len(row)) {
						expectNone(t, "Node of no such number", Node(x, secret, pub, p.adrs(), height, i))
					}
				}
			}
			for _, height := range []int{math.MinInt, math.MinInt32, -h, -2, -1, h + 1, h + 2, 2 * h, 9, 10, 64, 1<<32 + 1, 1 << 62, math.MaxInt} {
				if height > h || height < 0 {
					for _, i := range []uint64{0, 1, math.MaxUint64} {
						expectNone(t, "Node of no such height", Node(x, secret, pub, p.adrs(), height, i))
					}
				}
			}
		}
	}
}

// The highest trees: their tops, and knots at both ends of their rows.
func TestNodeOfTheHighest(t *testing.T) {
	t.Parallel()
	for i, x := range []api.Slh{{N: 16, H: 9, D: 1, A: 1, K: 1}, {N: 24, H: 63, D: 7, A: 14, K: 17, Shake: true}, {N: 32, H: 64, D: 8, A: 14, K: 22}, {N: 16, H: 49, D: 7, A: 3, K: 4}} {
		p := ruledPlace{layer: uint32(i), treeLow: math.MaxUint64 - uint64(i)}
		secret, pub, _ := drawnKey(x, int64(i))
		rows := ruledTree(x, secret, pub, p)
		for height, row := range rows {
			for _, i := range []int{0, len(row) - 1} {
				if height < 4 || height == len(rows)-1 && i == 0 {
					expect(t, "Node", Node(x, secret, pub, p.adrs(), height, uint64(i)), row[i])
				}
			}
			expectNone(t, "Node behind the last", Node(x, secret, pub, p.adrs(), height, uint64(len(row))))
		}
	}
}

// Which bytes of a place count: those of layer and tree, and without Shake just those of the short form.
func TestWhichBytesOfAPlaceCount(t *testing.T) {
	t.Parallel()
	for _, x := range ruledKinds(1, 3) {
		secret, pub, text := drawnKey(x, 182)
		a := drawnBytes(183, 32)
		top, sig := Node(x, secret, pub, api.Adrs(a), 1, 0), Sign(x, text, secret, pub, api.Adrs(a), 1)
		leaf, candidate := Node(x, secret, pub, api.Adrs(a), 0, 1), Candidate(x, sig, text, pub, api.Adrs(a), 1)
		for i := range 32 {
			other := api.Adrs(flipped(a, 8*i+i%8))
			same := i >= 16 || !x.Shake && (i < 3 || i >= 4 && i < 8)
			for what, told := range map[string][2][]byte{
				"Node":      {Node(x, secret, pub, other, 1, 0), top},
				"a leaf":    {Node(x, secret, pub, other, 0, 1), leaf},
				"Sign":      {Sign(x, text, secret, pub, other, 1), sig},
				"Candidate": {Candidate(x, sig, text, pub, other, 1), candidate},
			} {
				if bytes.Equal(told[0], told[1]) != same {
					t.Errorf("%v, byte %d of a place, %s: %v is wanted", x, i, what, same)
				}
			}
		}
	}
}

// P18.2

// Each leaf of trees of small heights signs.
func TestSign(t *testing.T) {
	t.Parallel()
	r := rand.New(rand.NewSource(184))
	for h := 1; h <= 4; h++ {
		for _, x := range ruledKinds(h, 1+r.Intn(60/h)) {
			p := drawnPlace(r)
			secret, pub, text := drawnKey(x, r.Int63())
			rows := ruledTree(x, secret, pub, p)
			for leaf := range uint32(len(rows[0])) {
				got := Sign(x, text, secret, pub, p.adrs(), uint64(leaf))
				expect(t, "Sign", got, ruledSign(x, rows, text, secret, pub, p, leaf))
				if len(got) != Size(x) {
					t.Errorf("%v: %d bytes are signed, Size is %d", x, len(got), Size(x))
				}
			}
		}
	}
}

// The highest trees, by leaves whose numbers' bits are unlike.
func TestSignOfTheHighest(t *testing.T) {
	t.Parallel()
	for i, x := range []api.Slh{{N: 16, H: 9, D: 1, A: 1, K: 1}, {N: 24, H: 16, D: 2, A: 1, K: 1}, {N: 32, H: 63, D: 9, A: 1, K: 1, Shake: true}} {
		p := ruledPlace{layer: 1 << 24, treeHigh: 7, treeLow: 1 << 63, kind: 3}
		secret, pub, text := drawnKey(x, int64(i))
		rows := ruledTree(x, secret, pub, p)
		for _, leaf := range []uint32{uint32(len(rows[0]) - 1), 0x55} {
			expect(t, "Sign", Sign(x, text, secret, pub, p.adrs(), uint64(leaf)), ruledSign(x, rows, text, secret, pub, p, leaf))
		}
	}
}

// Any bytes of the length have a candidate, by each leaf.
func TestCandidate(t *testing.T) {
	t.Parallel()
	r := rand.New(rand.NewSource(185))
	for h := 1; h <= 9; h++ {
		for _, x := range ruledKinds(h, 1+r.Intn(60/h)) {
			p := drawnPlace(r)
			_, pub, text := drawnKey(x, r.Int63())
			sig := drawnBytes(r.Int63(), x.N*(2*x.N+3+h))
			leaves := []uint32{0, 1<<h - 1, 1 << (h - 1), 1<<(h-1) - 1, 0x155 & (1<<h - 1)}
			for range 6 {
				leaves = append(leaves, uint32(r.Intn(1<<h)))
			}
			for _, leaf := range leaves {
				expect(t, "Candidate", Candidate(x, sig, text, pub, p.adrs(), uint64(leaf)), ruledCandidate(x, sig, text, pub, p, leaf))
			}
		}
	}
}

// A leaf that is none, just behind the last one and far from it, signs nothing and is no one's.
func TestLeavesThatAreNone(t *testing.T) {
	for h := 1; h <= 9; h++ {
		for _, x := range ruledKinds(h, 1) {
			secret, pub, text := drawnKey(x, 186)
			sig := drawnBytes(187, Size(x))
			leaves := append(slices.Clone(edges), 1<<h, 1<<h+1, 1<<(h+1), 1<<32+1<<(h-1))
			for _, leaf := range leaves {
				expectNone(t, "Sign by no leaf", Sign(x, text, secret, pub, api.Adrs{}, leaf))
				expectNone(t, "Candidate of no leaf", Candidate(x, sig, text, pub, api.Adrs{}, leaf))
				expectNone(t, "Hyper by no leaf", Hyper(x, text, secret, pub, 0, leaf))
				expectVerify(t, "no leaf", x, text, sig, pub, text, 0, leaf, false)
			}
		}
	}
}

// Wrong inputs

// sizes is how many bytes texts have.
type sizes struct {
	secret, pub, text, sig, all, top int
}

// sizesOf is how many they must have.
func sizesOf(x api.Slh) sizes {
	one := Size(x)
	return sizes{x.N, x.N, x.N, one, x.D * one, x.N}
}

// expectTold fails unless just these calls tell something of a kind and of texts of these sizes; Verify does where it is right.
func expectTold(t *testing.T, what string, x api.Slh, z sizes, want ...string) {
	t.Helper()
	secret, pub, text := drawnBytes(1, z.secret), drawnBytes(2, z.pub), drawnBytes(3, z.text)
	sig, all, top := drawnBytes(4, z.sig), drawnBytes(5, z.all), drawnBytes(6, z.top)
	if isReckoned(x, z) {
		top = ruledTop(x, text, all, pub, 0, 0)
	}
	told := map[string]bool{
		"Size":      Size(x) != 0,
		"Node":      Node(x, secret, pub, api.Adrs{}, 0, 0) != nil,
		"Sign":      Sign(x, text, secret, pub, api.Adrs{}, 0) != nil,
		"Candidate": Candidate(x, sig, text, pub, api.Adrs{}, 0) != nil,
		"Hyper":     Hyper(x, text, secret, pub, 0, 0) != nil,
		"Verify":    Verify(x, text, all, pub, top, 0, 0),
	}
	for name, got := range told {
		if slices.Contains(want, name) != got {
			t.Errorf("%s: %v, %v: %s: %v", what, x, z, name, got)
		}
	}
}

// isReckoned tells whether a signature of these sizes leads to a top, whether its kind is fit or not, so that Verify has no other reason to tell false.
func isReckoned(x api.Slh, z sizes) bool {
	return slices.Contains([]int{16, 24, 32}, x.N) && z.text == x.N && z.top == x.N && x.D > 0 && x.H >= x.D && x.H < 100 && z.all >= x.D*x.N*(2*x.N+3) && z.all%(x.D*x.N) == 0
}

func TestKindsThatAreNotFit(t *testing.T) {
	t.Parallel()
	for _, x := range ruledKinds(2, 3) {
		z := sizesOf(x)
		expectTold(t, "a fit kind", x, z, "Size", "Node", "Sign", "Candidate", "Hyper", "Verify")
		for _, change := range []func(x *api.Slh){
			func(x *api.Slh) { x.D = 0 }, func(x *api.Slh) { x.D = -1 }, func(x *api.Slh) { x.D = 4 }, func(x *api.Slh) { x.D = math.MinInt }, func(x *api.Slh) { x.D = math.MaxInt },
			func(x *api.Slh) { x.H = 0 }, func(x *api.Slh) { x.H = 7 }, func(x *api.Slh) { x.H = -6 }, func(x *api.Slh) { x.H = 30 }, func(x *api.Slh) { x.H = 69 }, func(x *api.Slh) { x.H = math.MinInt },
			func(x *api.Slh) { x.H = 10; x.D = 1 }, func(x *api.Slh) { x.H = -6; x.D = -3 }, func(x *api.Slh) { x.H = 70; x.D = 70 }, func(x *api.Slh) { x.H = 0; x.D = 0 },
			func(x *api.Slh) { x.A = 0 }, func(x *api.Slh) { x.A = 15 }, func(x *api.Slh) { x.K = 0 }, func(x *api.Slh) { x.K = 41 },
		} {
			other := x
			change(&other)
			expectTold(t, "a kind that is not fit", other, z)
			if other.D > 0 && other.D < 100 && other.H >= other.D {
				z := z
				z.sig = x.N * (2*x.N + 3 + other.H/other.D)
				z.all = other.D * z.sig
				expectTold(t, "a kind that is not fit, of its own sizes", other, z)
			}
		}
		for _, size := range []int{math.MinInt, -16, -1, 0, 1, 8, 15, 17, 20, 23, 25, 28, 31, 33, 40, 48, 64, math.MaxInt} {
			other := x
			other.N = size
			expectTold(t, "another size", other, z)
			if size >= 0 && size <= 64 {
				one := size * (2*size + 5)
				expectTold(t, "another size of all", other, sizes{size, size, size, one, 3 * one, size})
			}
		}
	}
	expectTold(t, "nothing", api.Slh{}, sizes{})
	expectTold(t, "nothing", api.Slh{D: 1, H: 1, A: 1, K: 1}, sizes{})
}

func TestLengthsThatAreNotFit(t *testing.T) {
	t.Parallel()
	for _, x := range ruledKinds(2, 2) {
		n, right := x.N, sizesOf(x)
		for _, size := range []int{0, 1, n - 1, n + 1, 16, 24, 32, 48, 64, 2 * n, 1 << 12} {
			if size == n {
				continue
			}
			z := right
			z.secret = size
			expectTold(t, "a secret of another length", x, z, "Size", "Candidate", "Verify")
			z = right
			z.pub = size
			expectTold(t, "another length of what all know", x, z, "Size")
			z = right
			z.text = size
			expectTold(t, "a text of another length", x, z, "Size", "Node")
			expectTold(t, "all of another length", x, sizes{size, size, size, size, size, size}, "Size")
		}
		for _, by := range []int{-right.sig, -right.sig / 2, -n, -1, 1, n, right.sig / 2, right.sig} {
			z := right
			z.sig += by
			expectTold(t, "a signature of another length", x, z, "Size", "Node", "Sign", "Hyper", "Verify")
		}
	}
}

// Whatever number of bytes a signature has, one alone is right.
func TestCandidateOfAnyLength(t *testing.T) {
	for _, x := range ruledKinds(1, 1) {
		_, pub, text := drawnKey(x, 188)
		sig := drawnBytes(189, 2*Size(x))
		for size := range sig {
			if got := Candidate(x, sig[:size], text, pub, api.Adrs{}, 0); size == Size(x) != (got != nil) {
				t.Errorf("%v: %d bytes have a candidate of %d bytes", x, size, len(got))
			}
		}
	}
}
