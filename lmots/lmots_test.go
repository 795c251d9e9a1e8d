package lmots

import (
	"bytes"
	"encoding/hex"
	"math"
	"math/bits"
	"slices"
	"testing"

	"apostille/api"
)

// noKinds is what is no kind: all around those that are, and numbers whose lowest bits are theirs.
func noKinds() []int {
	l := []int{math.MinInt, math.MinInt + 1, math.MinInt32, math.MaxInt32, math.MaxInt, 1 << 62}
	for _, k := range ruledKinds {
		l = append(l, -k.w, 256+k.w, 1<<16+k.w, 1<<32+k.w, 1<<56+k.w, math.MinInt+k.w)
	}
	for w := -70; w <= 300; w++ {
		if w != 1 && w != 2 && w != 4 && w != 8 {
			l = append(l, w)
		}
	}
	return l
}

// someNumbers is leaves' numbers, whose bytes each are another one, and the edges.
var someNumbers = []uint32{0, 1, 255, 256, 65535, 65536, 0x01020304, 1 << 24, 1<<31 - 1, 1 << 31, math.MaxUint32}

// expect fails unless a call told these bytes.
func expect(t *testing.T, what string, got []byte, e api.Errno, want []byte) {
	t.Helper()
	if e != api.OK || !bytes.Equal(got, want) {
		t.Errorf("%s: %x, %v; want %x", what, short(got), e, short(want))
	}
}

// expectError fails unless a call told this error, and nothing beside it.
func expectError(t *testing.T, what string, got []byte, e, want api.Errno) {
	t.Helper()
	if e != want || got != nil {
		t.Errorf("%s: %d bytes, %v; want %v", what, len(got), e, want)
	}
}

// expectDigits fails unless Digits tells these.
func expectDigits(t *testing.T, w int, digest []byte, want []uint32) {
	t.Helper()
	got, e := Digits(w, digest)
	if e != api.OK || !slices.Equal(got, want) {
		t.Errorf("Digits of %d of %x: %v, %v; want %v", w, digest, got, e, want)
	}
}

// short is the first bytes of a text, as many as are worth a line.
func short(b []byte) []byte {
	return b[:min(len(b), 64)]
}

// unhex is bytes out of their digits.
func unhex(t *testing.T, s string) []byte {
	t.Helper()
	b, err := hex.DecodeString(s)
	if err != nil {
		t.Fatal(err)
	}
	return b
}

// sixteen and thirtyTwo are an id and a seed of the right length.
var sixteen, thirtyTwo = drawnBytes(1, 16), drawnBytes(2, 32)

func TestTheChaptersExamples(t *testing.T) {
	if Size(4) != 2180 {
		t.Errorf("Size of 4: %d", Size(4))
	}
	all := bytes.Repeat([]byte{255}, 32)
	want := append(slices.Repeat([]uint32{255}, 32), 0, 0)
	expectDigits(t, 8, all, want)
	if got, e := Digits(3, all); got != nil || e != api.ErrAlg {
		t.Errorf("Digits of 3: %v, %v", got, e)
	}
}

// P14.1

// How many digits and by how much the check is shifted follow from how many bits a digit has, as RFC 8554 reckons them in its appendix B.
func TestTheChaptersTableIsTheStandards(t *testing.T) {
	for _, k := range ruledKinds {
		u := 256 / k.w
		v := (bits.Len(uint((1<<k.w-1)*u)) + k.w - 1) / k.w
		if k.p != u+v || k.s != 16-v*k.w {
			t.Errorf("w %d: p %d, s %d; want %d, %d", k.w, k.p, k.s, u+v, 16-v*k.w)
		}
	}
}

func TestSize(t *testing.T) {
	for w, want := range map[int]int{1: 8516, 2: 4292, 4: 2180, 8: 1124} {
		if got := Size(w); got != want {
			t.Errorf("Size of %d: %d, want %d", w, got, want)
		}
	}
	for _, w := range noKinds() {
		if got := Size(w); got != 0 {
			t.Errorf("Size of %d: %d", w, got)
		}
	}
}

// The least digest has the greatest check, the greatest one has none.
func TestDigitsAtTheEnds(t *testing.T) {
	least, most := make([]byte, 32), bytes.Repeat([]byte{255}, 32)
	checks := map[int][]uint32{1: {1, 0, 0, 0, 0, 0, 0, 0, 0}, 2: {1, 2, 0, 0, 0}, 4: {3, 12, 0}, 8: {31, 224}}
	for _, k := range ruledKinds {
		check := checks[k.w]
		expectDigits(t, k.w, least, append(make([]uint32, k.p-len(check)), check...))
		top := slices.Repeat([]uint32{1<<k.w - 1}, k.p-len(check))
		expectDigits(t, k.w, most, append(top, make([]uint32, len(check))...))
	}
}

func TestDigitsByTheRule(t *testing.T) {
	for _, k := range ruledKinds {
		for i := range 256 {
			least, most := make([]byte, 32), bytes.Repeat([]byte{255}, 32)
			least[i/8] ^= 1 << (i % 8)
			most[i/8] ^= 1 << (i % 8)
			for _, digest := range [][]byte{least, most, drawnBytes(int64(i), 32), bytes.Repeat([]byte{byte(i)}, 32)} {
				expectDigits(t, k.w, digest, ruledDigits(k, digest))
			}
		}
	}
}

func TestDigitsOfAnotherLength(t *testing.T) {
	for _, k := range ruledKinds {
		for size := range 100 {
			got, e := Digits(k.w, make([]byte, size))
			if size != 32 && (got != nil || e != api.ErrSize) {
				t.Errorf("Digits of %d of %d bytes: %d digits, %v", k.w, size, len(got), e)
			}
		}
		for _, digest := range [][]byte{nil, make([]byte, 256+32), make([]byte, 1<<16+32), make([]byte, 1<<20)} {
			if got, e := Digits(k.w, digest); got != nil || e != api.ErrSize {
				t.Errorf("Digits of %d of %d bytes: %d digits, %v", k.w, len(digest), len(got), e)
			}
		}
	}
}

// Rule 0.2: what is no kind is told first.
func TestDigitsOfNoKind(t *testing.T) {
	for _, w := range noKinds() {
		for _, size := range []int{32, 0, 31, 33} {
			if got, e := Digits(w, make([]byte, size)); got != nil || e != api.ErrAlg {
				t.Errorf("Digits of %d of %d bytes: %d digits, %v", w, size, len(got), e)
			}
		}
	}
}

// P14.2

func TestPublicByTheRule(t *testing.T) {
	for _, k := range ruledKinds {
		for i, q := range someNumbers {
			id, seed := drawnBytes(int64(10+i), 16), drawnBytes(int64(30+i), 32)
			got, e := Public(k.w, id, q, seed)
			expect(t, "Public", got, e, ruledPublic(k, id, q, seed))
		}
		for _, x := range []byte{0, 128, 255} {
			id, seed := bytes.Repeat([]byte{x}, 16), bytes.Repeat([]byte{x}, 32)
			got, e := Public(k.w, id, 5, seed)
			expect(t, "Public", got, e, ruledPublic(k, id, 5, seed))
		}
	}
}

func TestSignByTheRule(t *testing.T) {
	for _, k := range ruledKinds {
		for i, q := range someNumbers {
			id, seed, text := drawnBytes(int64(50+i), 16), drawnBytes(int64(70+i), 32), drawnBytes(int64(90+i), 7*i)
			got, e := Sign(k.w, id, q, seed, text)
			expect(t, "Sign", got, e, ruledSign(k, id, q, seed, text))
			if len(got) != Size(k.w) {
				t.Errorf("Sign by %d: %d bytes, want %d", k.w, len(got), Size(k.w))
			}
		}
	}
}

// Texts of each length up to one that fills two blocks of the sum behind the 54 bytes that stand ahead of it.
func TestTextsOfEachLength(t *testing.T) {
	k := ruledKinds[2]
	text := drawnBytes(110, 150)
	for size := range len(text) {
		sig, e := Sign(4, sixteen, 9, thirtyTwo, text[:size])
		expect(t, "Sign", sig, e, ruledSign(k, sixteen, 9, thirtyTwo, text[:size]))
		got, e := Candidate(4, sixteen, 9, text[:size], sig)
		expect(t, "Candidate", got, e, ruledCandidate(k, sixteen, 9, text[:size], sig))
	}
}

func TestTheLongestText(t *testing.T) {
	text := drawnBytes(111, 1<<24)
	for _, k := range ruledKinds {
		sig, e := Sign(k.w, sixteen, 3, thirtyTwo, text)
		expect(t, "Sign", sig, e, ruledSign(k, sixteen, 3, thirtyTwo, text))
		got, e := Candidate(k.w, sixteen, 3, text, sig)
		expect(t, "Candidate", got, e, ruledPublic(k, sixteen, 3, thirtyTwo))
	}
}

func TestNoTextIsAnEmptyOne(t *testing.T) {
	for _, k := range ruledKinds {
		want := ruledSign(k, sixteen, 3, thirtyTwo, nil)
		for _, text := range [][]byte{nil, {}} {
			sig, e := Sign(k.w, sixteen, 3, thirtyTwo, text)
			expect(t, "Sign of nothing", sig, e, want)
			got, e := Candidate(k.w, sixteen, 3, text, want)
			expect(t, "Candidate of nothing", got, e, ruledPublic(k, sixteen, 3, thirtyTwo))
		}
	}
}

// expectSecretError fails unless both Public and Sign tell this error.
func expectSecretError(t *testing.T, w int, id, seed []byte, want api.Errno) {
	t.Helper()
	got, e := Public(w, id, 1, seed)
	expectError(t, "Public", got, e, want)
	got, e = Sign(w, id, 1, seed, []byte("text"))
	expectError(t, "Sign", got, e, want)
}

func TestIdsAndSeedsOfAnotherLength(t *testing.T) {
	for _, k := range ruledKinds {
		expectSecretError(t, k.w, nil, thirtyTwo, api.ErrSize)
		expectSecretError(t, k.w, sixteen, nil, api.ErrSize)
		expectSecretError(t, k.w, thirtyTwo, sixteen, api.ErrSize)
		for _, size := range []int{256, 1 << 16, 1 << 20} {
			expectSecretError(t, k.w, make([]byte, size+16), thirtyTwo, api.ErrSize)
			expectSecretError(t, k.w, sixteen, make([]byte, size+32), api.ErrSize)
		}
		for size := range 80 {
			if size != 16 {
				expectSecretError(t, k.w, make([]byte, size), thirtyTwo, api.ErrSize)
				expectSecretError(t, k.w, make([]byte, size), make([]byte, 48-min(size, 48)), api.ErrSize)
			}
			if size != 32 {
				expectSecretError(t, k.w, sixteen, make([]byte, size), api.ErrSize)
			}
		}
	}
}

// Rule 0.2: what is no kind is told first.
func TestSecretsOfNoKind(t *testing.T) {
	for _, w := range noKinds() {
		for _, id := range [][]byte{sixteen, nil, thirtyTwo} {
			for _, seed := range [][]byte{thirtyTwo, nil, sixteen} {
				expectSecretError(t, w, id, seed, api.ErrAlg)
			}
		}
	}
}

// P14.3

// Whatever the parts are: they need not be a leaf's.
func TestCandidateByTheRule(t *testing.T) {
	for _, k := range ruledKinds {
		for i, q := range someNumbers {
			id, text := drawnBytes(int64(120+i), 16), drawnBytes(int64(140+i), 11*i)
			sig := drawnBytes(int64(160+i), Size(k.w))
			copy(sig, []byte{0, 0, 0, k.typecode})
			got, e := Candidate(k.w, id, q, text, sig)
			expect(t, "Candidate", got, e, ruledCandidate(k, id, q, text, sig))
		}
	}
}

func TestSignaturesOfAnotherLength(t *testing.T) {
	for _, k := range ruledKinds {
		sig := make([]byte, 2*Size(k.w))
		sig[3] = k.typecode
		for size := range sig {
			if size != Size(k.w) {
				got, e := Candidate(k.w, sixteen, 1, nil, sig[:size])
				expectError(t, "Candidate", got, e, api.ErrForm)
			}
		}
		got, e := Candidate(k.w, sixteen, 1, nil, nil)
		expectError(t, "Candidate", got, e, api.ErrForm)
	}
}

func TestSignaturesOfAnotherTypecode(t *testing.T) {
	for _, k := range ruledKinds {
		sig := ruledSign(k, sixteen, 1, thirtyTwo, nil)
		for i := range 32 {
			other := slices.Clone(sig)
			other[i/8] ^= 1 << (i % 8)
			got, e := Candidate(k.w, sixteen, 1, nil, other)
			expectError(t, "Candidate", got, e, api.ErrForm)
		}
		for code := range 256 {
			other := slices.Clone(sig)
			other[3] = byte(code)
			got, e := Candidate(k.w, sixteen, 1, nil, other)
			if byte(code) == k.typecode {
				expect(t, "Candidate", got, e, ruledPublic(k, sixteen, 1, thirtyTwo))
			} else {
				expectError(t, "Candidate", got, e, api.ErrForm)
			}
		}
	}
}

// A signature of one kind is none of another one.
func TestSignaturesOfAnotherKind(t *testing.T) {
	for _, k := range ruledKinds {
		sig := ruledSign(k, sixteen, 1, thirtyTwo, nil)
		for _, other := range ruledKinds {
			if other.w != k.w {
				got, e := Candidate(other.w, sixteen, 1, nil, sig)
				expectError(t, "Candidate", got, e, api.ErrForm)
			}
		}
	}
}

// Rule 0.2: the kind, then the id, then the signature.
func TestCandidateTellsTheFirstError(t *testing.T) {
	for _, k := range ruledKinds {
		sig := ruledSign(k, sixteen, 1, thirtyTwo, nil)
		for _, b := range [][]byte{sig, nil, sig[1:], make([]byte, len(sig))} {
			for size := range 80 {
				if size != 16 {
					got, e := Candidate(k.w, make([]byte, size), 1, nil, b)
					expectError(t, "Candidate", got, e, api.ErrSize)
				}
			}
			for _, w := range noKinds() {
				for _, id := range [][]byte{sixteen, nil, thirtyTwo} {
					got, e := Candidate(w, id, 1, nil, b)
					expectError(t, "Candidate", got, e, api.ErrAlg)
				}
			}
		}
	}
}
