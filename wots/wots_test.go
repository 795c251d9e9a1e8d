package wots

import (
	"bytes"
	"math"
	"math/rand"
	"slices"
	"testing"

	"apostille/api"
)

// expect fails unless a call told these bytes.
func expect(t *testing.T, what string, got, want []byte) {
	t.Helper()
	if !bytes.Equal(got, want) {
		t.Errorf("%s: %x; want %x", what, short(got), short(want))
	}
}

// expectNone fails unless a call told nothing.
func expectNone(t *testing.T, what string, got []byte) {
	t.Helper()
	if got != nil {
		t.Errorf("%s: %d bytes; want none", what, len(got))
	}
}

// short is the first bytes of a text, as many as are worth a line.
func short(b []byte) []byte {
	return b[:min(len(b), 64)]
}

func TestTheChaptersExamples(t *testing.T) {
	want := append(make([]uint32, 32), 1, 14, 0)
	if got := Digits(16, make([]byte, 16)); !slices.Equal(got, want) {
		t.Errorf("Digits: %v", got)
	}
	var all, ahead api.Adrs
	for i := range all {
		all[i] = 255
	}
	copy(ahead[:], bytes.Repeat([]byte{255}, 16))
	ahead[19] = 2
	if got := Put(all, 2, 2); got != ahead {
		t.Errorf("Put of type 2: %x", got)
	}
}

// P17.1: Fit

// numbersAround is the numbers about which bounds could be, and those that wrap round to some within.
func numbersAround(most int) []int {
	l := []int{math.MinInt, math.MinInt + 1, math.MinInt32, math.MaxInt32, math.MaxInt, 1<<32 + 1, 1<<32 + 16, 1<<62 + 16}
	for n := -most; n <= most; n++ {
		l = append(l, n)
	}
	return l
}

func TestFitOfSizes(t *testing.T) {
	for _, n := range numbersAround(300) {
		want := n == 16 || n == 24 || n == 32
		for _, shake := range []bool{false, true} {
			if got := Fit(api.Slh{N: n, H: 63, D: 7, A: 12, K: 14, Shake: shake}); got != want {
				t.Errorf("Fit of N %d: %v", n, got)
			}
		}
	}
}

func TestFitOfHeights(t *testing.T) {
	fits := 0
	for _, h := range numbersAround(150) {
		for _, d := range numbersAround(150) {
			want := 0 < d && d <= h && h <= 68 && h == h/d*d && h/d <= 9
			if want {
				fits++
			}
			if got := Fit(api.Slh{N: 16, H: h, D: d, A: 12, K: 14}); got != want {
				t.Errorf("Fit of H %d, D %d: %v", h, d, got)
			}
		}
	}
	if fits != 68+34+22+17+13+11+9+8+7 {
		t.Errorf("%d are fit", fits)
	}
}

func TestFitOfFews(t *testing.T) {
	for _, a := range numbersAround(80) {
		for _, k := range numbersAround(80) {
			want := a >= 1 && a <= 14 && k >= 1 && k <= 40
			if got := Fit(api.Slh{N: 32, H: 64, D: 8, A: a, K: k, Shake: true}); got != want {
				t.Errorf("Fit of A %d, K %d: %v", a, k, got)
			}
		}
	}
	if Fit(api.Slh{}) {
		t.Errorf("nothing is fit")
	}
}

// All kinds of the standard can be, and those whose numbers each are at a bound.
func TestFitOfTheStandards(t *testing.T) {
	for _, x := range []api.Slh{
		{N: 16, H: 63, D: 7, A: 12, K: 14}, {N: 16, H: 66, D: 22, A: 6, K: 33}, {N: 24, H: 63, D: 7, A: 14, K: 17},
		{N: 24, H: 66, D: 22, A: 8, K: 33}, {N: 32, H: 64, D: 8, A: 14, K: 22}, {N: 32, H: 68, D: 17, A: 9, K: 35},
		{N: 16, H: 1, D: 1, A: 1, K: 1}, {N: 32, H: 9, D: 1, A: 14, K: 40}, {N: 24, H: 68, D: 68, A: 1, K: 40},
	} {
		for _, shake := range []bool{false, true} {
			x.Shake = shake
			if !Fit(x) {
				t.Errorf("%v is not fit", x)
			}
		}
	}
}

// P17.1: Put

// edges is numbers whose bytes each are another one, and bounds.
var edges = []uint64{0, 1, 2, 255, 256, 65535, 65536, 1<<24 - 1, 0x01020304, 1<<31 - 1, 1 << 31, 1<<32 - 1, 1 << 32, 0x0102030405060708, 1 << 63, math.MaxUint64}

func TestPut(t *testing.T) {
	r := rand.New(rand.NewSource(171))
	for range 200 {
		p := drawnPlace(r, r.Uint32())
		for _, n := range append(slices.Clone(edges), r.Uint64(), r.Uint64()) {
			low := uint32(n)
			layer, tree, kind, first, second, end := p, p, p, p, p, p
			layer.layer = low
			tree.treeHigh, tree.treeLow = 0, n
			kind.kind, kind.first, kind.second, kind.end = low, 0, 0, 0
			first.first, second.second, end.end = low, low, low
			for part, want := range []ruledPlace{layer, tree, kind, first, second, end} {
				if got := Put(p.adrs(), part, n); got != want.adrs() {
					t.Errorf("Put of part %d, %d at %x: %x", part, n, p.adrs(), got)
				}
			}
		}
	}
}

func TestPutOfOtherParts(t *testing.T) {
	a := api.Adrs(drawnBytes(172, 32))
	for _, part := range numbersAround(300) {
		if part >= 0 && part < 6 {
			continue
		}
		for _, n := range edges {
			if got := Put(a, part, n); got != a {
				t.Errorf("Put of part %d, %d: %x", part, n, got)
			}
		}
	}
}

// P17.1: Sum, Draw

// The sums at lengths all around those at which something is another one: a sum's size, and full blocks.
func TestSum(t *testing.T) {
	r := rand.New(rand.NewSource(173))
	for _, x := range ruledKinds() {
		for size := range 400 {
			p, pub, text := drawnPlace(r, r.Uint32()), drawnBytes(r.Int63(), x.N), drawnBytes(r.Int63(), size)
			expect(t, "Sum", Sum(x, pub, p.adrs(), text), ruledSum(x, pub, p, text))
		}
		for _, size := range []int{1 << 12, 67 * 32, 1 << 16, 1<<20 + 1} {
			p, pub, text := drawnPlace(r, 1), drawnBytes(r.Int63(), x.N), drawnBytes(r.Int63(), size)
			expect(t, "Sum of a long text", Sum(x, pub, p.adrs(), text), ruledSum(x, pub, p, text))
		}
		expect(t, "Sum of nothing", Sum(x, make([]byte, x.N), api.Adrs{}, nil), ruledSum(x, make([]byte, x.N), ruledPlace{}, nil))
	}
}

func TestSumOfTheLongestText(t *testing.T) {
	t.Parallel()
	text := drawnBytes(174, 1<<24)
	for _, x := range ruledKinds() {
		p, pub := drawnPlace(rand.New(rand.NewSource(1)), 4), drawnBytes(175, x.N)
		expect(t, "Sum", Sum(x, pub, p.adrs(), text), ruledSum(x, pub, p, text))
	}
}

// The bytes of a place that count: all of them with Shake, else those of the short form.
func TestWhichBytesOfAPlaceCount(t *testing.T) {
	counts := []int{3, 8, 9, 10, 11, 12, 13, 14, 15, 19, 20, 21, 22, 23, 24, 25, 26, 27, 28, 29, 30, 31}
	for _, x := range ruledKinds() {
		pub, text, a := drawnBytes(176, x.N), drawnBytes(177, 3*x.N), drawnBytes(178, 32)
		sum, draw := Sum(x, pub, api.Adrs(a), text), Draw(x, pub, text[:x.N], api.Adrs(a))
		for i := range 256 {
			other := api.Adrs(flipped(a, i))
			same := !x.Shake && !slices.Contains(counts, i/8)
			if bytes.Equal(Sum(x, pub, other, text), sum) != same || bytes.Equal(Draw(x, pub, text[:x.N], other), draw) != same {
				t.Errorf("%v: bit %d of a place: %v is wanted", x, i, same)
			}
		}
	}
}

func TestDraw(t *testing.T) {
	r := rand.New(rand.NewSource(179))
	for _, x := range ruledKinds() {
		for range 100 {
			p, pub, secret := drawnPlace(r, r.Uint32()), drawnBytes(r.Int63(), x.N), drawnBytes(r.Int63(), x.N)
			got := Draw(x, pub, secret, p.adrs())
			expect(t, "Draw", got, ruledSum(x, pub, p, secret))
			expect(t, "Sum of a secret", Sum(x, pub, p.adrs(), secret), got)
			if bytes.Equal(Draw(x, secret, pub, p.adrs()), got) {
				t.Errorf("%v: the secret and what all know are one", x)
			}
		}
	}
}

// P17.2

func TestDigits(t *testing.T) {
	r := rand.New(rand.NewSource(180))
	for _, n := range ruledSizes {
		texts := [][]byte{make([]byte, n), bytes.Repeat([]byte{255}, n), bytes.Repeat([]byte{0x0f}, n), bytes.Repeat([]byte{0xf0}, n)}
		for range 500 {
			texts = append(texts, drawnBytes(r.Int63(), n))
		}
		for _, text := range texts {
			got := Digits(n, text)
			if len(got) != 2*n+3 || !slices.Equal(got, ruledDigits(text)) {
				t.Errorf("Digits of %x: %v", text, got)
			}
		}
	}
}

// The check of the least text and of the greatest one, written out.
func TestTheGreatestCheck(t *testing.T) {
	for n, want := range map[int][]uint32{16: {1, 14, 0}, 24: {2, 13, 0}, 32: {3, 12, 0}} {
		if got := Digits(n, make([]byte, n)); !slices.Equal(got[2*n:], want) {
			t.Errorf("the check of %d bytes 0: %v", n, got[2*n:])
		}
		if got := Digits(n, bytes.Repeat([]byte{255}, n)); !slices.Equal(got[2*n:], []uint32{0, 0, 0}) {
			t.Errorf("the check of %d bytes 255: %v", n, got[2*n:])
		}
	}
}

func TestDigitsOfNone(t *testing.T) {
	for _, n := range numbersAround(100) {
		for size := range 70 {
			got, fit := Digits(n, make([]byte, size)), (n == 16 || n == 24 || n == 32) && n == size
			if fit != (got != nil) {
				t.Errorf("Digits of %d, of %d bytes: %v", n, size, got)
			}
		}
		if 0 <= n && n <= 100 && n != 16 && n != 24 && n != 32 && Digits(n, make([]byte, n)) != nil {
			t.Errorf("Digits of %d", n)
		}
	}
	if Digits(0, nil) != nil || Digits(16, nil) != nil || Digits(16, drawnBytes(1, 1<<16)) != nil {
		t.Errorf("Digits of another length")
	}
}

// P17.3, P17.4

// Places have numbers of every part; the second and the third of those behind a type count for nothing.
func TestSigning(t *testing.T) {
	t.Parallel()
	r := rand.New(rand.NewSource(181))
	for _, x := range ruledKinds() {
		for range 12 {
			p := drawnPlace(r, api.AdWotsHash)
			secret, pub, text := drawnBytes(r.Int63(), x.N), drawnBytes(r.Int63(), x.N), drawnBytes(r.Int63(), x.N)
			expect(t, "Public", Public(x, secret, pub, p.adrs()), ruledPublic(x, secret, pub, p))
			expect(t, "Sign", Sign(x, text, secret, pub, p.adrs()), ruledSign(x, text, secret, pub, p))
			sig := drawnBytes(r.Int63(), x.N*(2*x.N+3))
			expect(t, "Candidate", Candidate(x, sig, text, pub, p.adrs()), ruledCandidate(x, sig, text, pub, p))
		}
	}
}

// Texts all of whose digits are one: each number of steps, in each chain.
func TestEachDigit(t *testing.T) {
	t.Parallel()
	for _, x := range ruledKinds() {
		p := ruledPlace{layer: 3, treeLow: 1 << 40, first: 511}
		secret, pub, sig := drawnBytes(182, x.N), drawnBytes(183, x.N), drawnBytes(184, x.N*(2*x.N+3))
		for digit := range 16 {
			text := bytes.Repeat([]byte{byte(17 * digit)}, x.N)
			expect(t, "Sign", Sign(x, text, secret, pub, p.adrs()), ruledSign(x, text, secret, pub, p))
			expect(t, "Candidate", Candidate(x, sig, text, pub, p.adrs()), ruledCandidate(x, sig, text, pub, p))
		}
	}
}

// A kind's heights and numbers of trees are nothing to a leaf.
func TestKindsOfOneSize(t *testing.T) {
	p := drawnPlace(rand.New(rand.NewSource(185)), api.AdWotsHash)
	for _, x := range ruledKinds() {
		secret, pub, text := drawnBytes(186, x.N), drawnBytes(187, x.N), drawnBytes(188, x.N)
		for _, other := range []api.Slh{{N: x.N, H: 1, D: 1, A: 1, K: 1, Shake: x.Shake}, {N: x.N, H: 63, D: 7, A: 14, K: 40, Shake: x.Shake}} {
			expect(t, "Sum", Sum(other, pub, p.adrs(), text), Sum(x, pub, p.adrs(), text))
			expect(t, "Draw", Draw(other, pub, secret, p.adrs()), Draw(x, pub, secret, p.adrs()))
			expect(t, "Public", Public(other, secret, pub, p.adrs()), ruledPublic(x, secret, pub, p))
			expect(t, "Sign", Sign(other, text, secret, pub, p.adrs()), ruledSign(x, text, secret, pub, p))
			sig := Sign(x, text, secret, pub, p.adrs())
			expect(t, "Candidate", Candidate(other, sig, text, pub, p.adrs()), ruledPublic(x, secret, pub, p))
		}
	}
}

// Wrong inputs

// calls is what each call that takes a kind tells, of texts of these sizes.
func calls(x api.Slh, secretSize, pubSize, textSize, sigSize int) map[string][]byte {
	secret, pub, text, sig := drawnBytes(1, secretSize), drawnBytes(2, pubSize), drawnBytes(3, textSize), drawnBytes(4, sigSize)
	return map[string][]byte{
		"Sum":       Sum(x, pub, api.Adrs{}, text),
		"Draw":      Draw(x, pub, secret, api.Adrs{}),
		"Public":    Public(x, secret, pub, api.Adrs{}),
		"Sign":      Sign(x, text, secret, pub, api.Adrs{}),
		"Candidate": Candidate(x, sig, text, pub, api.Adrs{}),
	}
}

// expectTold fails unless just these calls told something.
func expectTold(t *testing.T, what string, told map[string][]byte, want ...string) {
	t.Helper()
	for name, got := range told {
		if slices.Contains(want, name) != (got != nil) {
			t.Errorf("%s: %s told %d bytes", what, name, len(got))
		}
	}
}

func TestKindsThatAreNotFit(t *testing.T) {
	for _, x := range ruledKinds() {
		n := x.N
		expectTold(t, "a fit kind", calls(x, n, n, n, n*(2*n+3)), "Sum", "Draw", "Public", "Sign", "Candidate")
		for _, change := range []func(x *api.Slh){
			func(x *api.Slh) { x.D = 0 }, func(x *api.Slh) { x.D = -1 }, func(x *api.Slh) { x.D = 21 }, func(x *api.Slh) { x.H = 0 },
			func(x *api.Slh) { x.H = 69; x.D = 23 }, func(x *api.Slh) { x.H = 60; x.D = 6 }, func(x *api.Slh) { x.H = -66 }, func(x *api.Slh) { x.A = 0 },
			func(x *api.Slh) { x.A = 15 }, func(x *api.Slh) { x.K = 0 }, func(x *api.Slh) { x.K = 41 }, func(x *api.Slh) { x.K = math.MinInt },
		} {
			other := x
			change(&other)
			expectTold(t, "a kind that is not fit", calls(other, n, n, n, n*(2*n+3)))
		}
		for _, size := range []int{math.MinInt, -16, -1, 0, 1, 8, 15, 17, 20, 23, 25, 28, 31, 33, 40, 48, 64, 128, 129, 1 << 16, math.MaxInt} {
			other, has := x, size
			other.N = size
			if size < 0 || size > 1<<20 {
				has = n // there are no such texts
			}
			expectTold(t, "another size", calls(other, has, has, has, has*min(2*has+3, 300)))
			expectTold(t, "another size", calls(other, n, n, n, n*(2*n+3)))
		}
	}
}

func TestLengthsThatAreNotFit(t *testing.T) {
	for _, x := range ruledKinds() {
		n := x.N
		sigSize := n * (2*n + 3)
		for _, size := range []int{0, 1, n - 1, n + 1, 16, 24, 32, 64, 2 * n, 1 << 12} {
			if size == n {
				continue
			}
			expectTold(t, "a secret of another length", calls(x, size, n, n, sigSize), "Sum", "Candidate")
			expectTold(t, "another length of what all know", calls(x, n, size, n, sigSize))
			expectTold(t, "a text of another length", calls(x, n, n, size, sigSize), "Sum", "Draw", "Public")
			expectTold(t, "all of another length", calls(x, size, size, size, sigSize))
		}
		for _, size := range []int{0, n, sigSize - n, sigSize - 1, sigSize + 1, sigSize + n, 2 * sigSize, 16 * 35, 24 * 51, 32 * 67} {
			if size == sigSize {
				continue
			}
			expectTold(t, "a signature of another length", calls(x, n, n, n, size), "Sum", "Draw", "Public", "Sign")
		}
		expectNone(t, "Sum by nothing", Sum(x, nil, api.Adrs{}, nil))
		expectNone(t, "Draw by nothing", Draw(x, nil, nil, api.Adrs{}))
		expectNone(t, "Public by nothing", Public(x, nil, nil, api.Adrs{}))
		expectNone(t, "Sign of nothing", Sign(x, nil, nil, nil, api.Adrs{}))
		expectNone(t, "Candidate of nothing", Candidate(x, nil, nil, nil, api.Adrs{}))
	}
}
