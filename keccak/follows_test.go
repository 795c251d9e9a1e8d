package keccak

import (
	"bytes"
	"crypto/sha3"
	"encoding"
	"encoding/binary"
	"io"
	"math"
	"math/rand"
	"slices"
	"testing"

	"apostille/api"
)

// libraryAt is the library's sum that goes on from where ours stands: what it stores is a name of 4 bytes, a block's size, the words, the place, and whether it is squeezed.
func libraryAt(t *testing.T, s api.Sponge) any {
	t.Helper()
	var l any
	switch s.Kind {
	case api.HaSha3256:
		l = sha3.New256()
	case api.HaSha3512:
		l = sha3.New512()
	case api.HaShake128:
		l = sha3.NewSHAKE128()
	default:
		l = sha3.NewSHAKE256()
	}
	stored, err := l.(encoding.BinaryMarshaler).MarshalBinary()
	if err != nil {
		t.Fatal(err)
	}
	b := stored[:5:5]
	for _, w := range s.Words {
		b = binary.LittleEndian.AppendUint64(b, w)
	}
	squeezed := byte(0)
	if s.Out {
		squeezed = 1
	}
	b = append(b, byte(s.At), squeezed)
	if err := l.(encoding.BinaryUnmarshaler).UnmarshalBinary(b); err != nil {
		t.Fatal(err)
	}
	return l
}

// libraryBytes is what the library tells next.
func libraryBytes(t *testing.T, l any, n int) []byte {
	t.Helper()
	switch x := l.(type) {
	case *sha3.SHA3:
		return x.Sum(nil)
	case *sha3.SHAKE:
		out := make([]byte, n)
		if _, err := io.ReadFull(x, out); err != nil {
			t.Fatal(err)
		}
		return out
	}
	t.Fatal("no such sum")
	return nil
}

// P8.2

func TestAbsorbGoesByTheLibrary(t *testing.T) {
	r := rand.New(rand.NewSource(86))
	for _, kind := range kinds {
		n := wholeSize(kind)
		for i := range 2000 {
			s := drawnSponge(r, kind, false)
			l := libraryAt(t, s)
			b := drawn(int64(i), r.Intn(600))
			if _, err := l.(io.Writer).Write(b); err != nil {
				t.Fatal(err)
			}
			_, got := Squeeze(Absorb(s, b), n)
			if want := libraryBytes(t, l, n); !bytes.Equal(got, want) {
				t.Fatalf("%d bytes behind %+v: %x, want %x", len(b), s, got, want)
			}
		}
	}
}

func TestSqueezeGoesByTheLibrary(t *testing.T) {
	r := rand.New(rand.NewSource(87))
	for _, kind := range []int{api.HaShake128, api.HaShake256} {
		for range 2000 {
			s, n := drawnSponge(r, kind, true), r.Intn(700)
			_, got := Squeeze(s, n)
			if want := libraryBytes(t, libraryAt(t, s), n); !bytes.Equal(got, want) {
				t.Fatalf("%d bytes out of %+v: %x, want %x", n, s, got, want)
			}
		}
	}
}

// Every place meets texts of many lengths, around each end of a block.
func TestAbsorbAtEachPlace(t *testing.T) {
	r := rand.New(rand.NewSource(88))
	for _, kind := range kinds {
		block := ruledBlock[kind]
		for at := range block {
			s := api.Sponge{Kind: kind, Words: drawnWords(r), At: at}
			for _, size := range []int{0, 1, 2, 7, 8, 9, block - at - 1, block - at, block - at + 1, block, 2*block - at - 1, 2*block - at, 2*block - at + 1, 3 * block} {
				b := drawn(int64(at), size)
				if got, want := Absorb(s, b), ruledAbsorb(s, b); got != want {
					t.Fatalf("%d bytes behind %+v: %+v, want %+v", size, s, got, want)
				}
			}
		}
	}
}

func TestAbsorbOfNothing(t *testing.T) {
	r := rand.New(rand.NewSource(89))
	for _, kind := range kinds {
		for range 50 {
			s := drawnSponge(r, kind, false)
			if Absorb(s, nil) != s || Absorb(s, []byte{}) != s {
				t.Errorf("nothing changes %+v", s)
			}
		}
	}
}

func TestAbsorbOfWhatIsSqueezed(t *testing.T) {
	r := rand.New(rand.NewSource(90))
	for _, kind := range kinds {
		for at := range ruledBlock[kind] + 1 {
			s := api.Sponge{Kind: kind, Words: drawnWords(r), At: at, Out: true}
			for _, b := range [][]byte{nil, {0}, {1}, drawn(1, 72), drawn(2, 500)} {
				if got := Absorb(s, b); got != s {
					t.Fatalf("%d bytes change %+v to %+v", len(b), s, got)
				}
			}
		}
	}
}

// Every place, the block's last one and a block that is used up among them, meets many numbers of bytes.
func TestSqueezeAtEachPlace(t *testing.T) {
	r := rand.New(rand.NewSource(91))
	for _, kind := range kinds {
		block := ruledBlock[kind]
		for at := range block + 1 {
			for _, out := range []bool{false, true} {
				if at == block && !out {
					continue
				}
				s := api.Sponge{Kind: kind, Words: drawnWords(r), At: at, Out: out}
				for _, n := range []int{0, 1, 2, 7, 8, 9, max(block-at-1, 0), block - at, block - at + 1, block - 1, block, block + 1, 2*block - at, 2*block - at + 1, 2 * block, 3*block + 1} {
					got, b := Squeeze(s, n)
					want, w := ruledSqueeze(s, n)
					if got != want || !bytes.Equal(b, w) {
						t.Fatalf("%d bytes out of %+v: %+v, %x; want %+v, %x", n, s, got, b, want, w)
					}
				}
			}
		}
	}
}

// The rounds behind a block that is used up are not done till a byte is asked for.
func TestSqueezeOfAWholeBlock(t *testing.T) {
	for _, kind := range kinds {
		block := ruledBlock[kind]
		first, _ := Squeeze(begun(t, kind), 0)
		s, b := Squeeze(begun(t, kind), block)
		if s.At != block || s.Words != first.Words || len(b) != block {
			t.Errorf("kind %d: %d bytes, %+v", kind, len(b), s)
		}
		if still, none := Squeeze(s, 0); still != s || none != nil {
			t.Errorf("kind %d: no bytes change %+v to %+v", kind, s, still)
		}
		next, _ := Squeeze(s, 1)
		if next.At != 1 || next.Words != ruledPermute(s.Words) {
			t.Errorf("kind %d: the byte behind a block: %+v", kind, next)
		}
	}
}

func TestSqueezeOfNoBytes(t *testing.T) {
	r := rand.New(rand.NewSource(92))
	for _, kind := range kinds {
		for range 50 {
			s := drawnSponge(r, kind, false)
			got, b := Squeeze(s, 0)
			want, _ := ruledSqueeze(s, 0)
			if got != want || !got.Out || got.At != 0 || b != nil {
				t.Errorf("no bytes out of %+v: %+v, %x", s, got, b)
			}
			if again, b := Squeeze(got, 0); again != got || b != nil {
				t.Errorf("no bytes again: %+v, %x", again, b)
			}
		}
	}
}

func TestSqueezeOfLessThanNone(t *testing.T) {
	r := rand.New(rand.NewSource(93))
	for _, kind := range kinds {
		for i := range 50 {
			s := drawnSponge(r, kind, i%2 == 1)
			for _, n := range []int{math.MinInt, math.MinInt32, -1 << 24, -8, -2, -1} {
				if got, b := Squeeze(s, n); got != s || b != nil {
					t.Errorf("%d bytes out of %+v: %+v, %x", n, s, got, b)
				}
			}
		}
	}
}

func TestSqueezeOfTheMostBytes(t *testing.T) {
	for _, kind := range kinds {
		want, _ := Sum(kind, nil, 1<<24)
		s, got := Squeeze(begun(t, kind), 1<<24)
		if !Fit(s) || !s.Out || !bytes.Equal(got, want) {
			t.Errorf("kind %d: %d bytes, at %d", kind, len(got), s.At)
		}
		if s.At != (1<<24-1)%ruledBlock[kind]+1 {
			t.Errorf("kind %d: at %d", kind, s.At)
		}
	}
}

// Rule 0.1: more than there can be does no harm.
func TestSqueezeOfTooManyBytes(t *testing.T) {
	r := rand.New(rand.NewSource(94))
	for _, kind := range kinds {
		for i := range 6 {
			s := drawnSponge(r, kind, i%2 == 1)
			for _, n := range []int{1<<24 + 1, 1 << 40, 1 << 62, math.MaxInt} {
				if got, b := Squeeze(s, n); got != s || b != nil {
					t.Errorf("%d bytes out of %+v: %d", n, s, len(b))
				}
			}
		}
	}
}

// P8.4

func TestAbsorbedInTwoParts(t *testing.T) {
	for _, kind := range kinds {
		for _, size := range []int{0, 1, 71, 72, 73, 135, 136, 137, 144, 167, 168, 169, 272, 336, 400} {
			b := drawn(int64(size), size)
			whole := Absorb(begun(t, kind), b)
			n := wholeSize(kind)
			want := librarySum(kind, b, n)
			for cut := range size + 1 {
				s := Absorb(Absorb(begun(t, kind), b[:cut]), b[cut:])
				if _, got := Squeeze(s, n); s != whole || !bytes.Equal(got, want) {
					t.Fatalf("kind %d, %d bytes cut at %d: %+v, want %+v", kind, size, cut, s, whole)
				}
			}
		}
	}
}

func TestSqueezedInTwoParts(t *testing.T) {
	for _, kind := range kinds {
		for _, n := range []int{0, 1, 71, 72, 73, 135, 136, 137, 144, 145, 167, 168, 169, 272, 273, 336, 337, 400} {
			s := Absorb(begun(t, kind), []byte("abc"))
			end, want := Squeeze(s, n)
			for cut := range n + 1 {
				middle, first := Squeeze(s, cut)
				last, second := Squeeze(middle, n-cut)
				if last != end || !bytes.Equal(slices.Concat(first, second), want) {
					t.Fatalf("kind %d, %d bytes cut at %d: %+v, want %+v", kind, n, cut, last, end)
				}
			}
		}
	}
}

// Sizes are drawn up to a bound that is drawn, too: empty parts and parts of many blocks are among them.
func TestManyParts(t *testing.T) {
	r := rand.New(rand.NewSource(95))
	for _, kind := range kinds {
		for i := range 400 {
			b, n := drawn(int64(i), r.Intn(3000)), r.Intn(3000)
			want, _ := Sum(kind, b, n)
			s, rest, most := begun(t, kind), b, 1+r.Intn(500)
			for len(rest) > 0 {
				size := min(len(rest), r.Intn(most+1))
				s = Absorb(s, rest[:size])
				rest = rest[size:]
			}
			var got, part []byte
			for len(got) < n {
				s, part = Squeeze(s, min(n-len(got), r.Intn(most+1)))
				got = append(got, part...)
			}
			if !bytes.Equal(got, want) {
				t.Fatalf("kind %d, %d bytes out of %d in parts", kind, n, len(b))
			}
		}
	}
}

func TestSingleBytes(t *testing.T) {
	b := drawn(96, 500)
	for _, kind := range kinds {
		s, n := begun(t, kind), wholeSize(kind)
		for i, x := range b {
			if _, got := Squeeze(s, n); !bytes.Equal(got, librarySum(kind, b[:i], n)) {
				t.Fatalf("kind %d, %d bytes: %x", kind, i, got)
			}
			s = Absorb(s, []byte{x})
		}
		want := ruledSum(kind, b, 700)
		for i := range want {
			var got []byte
			if s, got = Squeeze(s, 1); len(got) != 1 || got[0] != want[i] {
				t.Fatalf("kind %d, byte %d: %x, want %x", kind, i, got, want[i])
			}
		}
	}
}

// P8.5

func TestWhatGoesOnStaysFit(t *testing.T) {
	r := rand.New(rand.NewSource(97))
	for _, kind := range kinds {
		if !Fit(begun(t, kind)) {
			t.Errorf("New(%d) is not fit", kind)
		}
		for i := range 1000 {
			s := drawnSponge(r, kind, i%2 == 1)
			for range 12 {
				was := s
				if r.Intn(2) == 0 {
					s = Absorb(s, drawn(int64(i), r.Intn(400)))
				} else {
					s, _ = Squeeze(s, r.Intn(400)-20)
				}
				if !Fit(s) || s.Kind != kind || was.Out && !s.Out {
					t.Fatalf("not fit: %+v", s)
				}
			}
		}
	}
}

// Each way to end just at a block's end stays fit.
func TestStaysFitAtTheBlocksEnd(t *testing.T) {
	for _, kind := range kinds {
		block := ruledBlock[kind]
		for size := range 3*block + 1 {
			s := Absorb(begun(t, kind), drawn(int64(size), size))
			if !Fit(s) || s.Out || s.At != size%block {
				t.Fatalf("kind %d, %d bytes absorbed: %+v", kind, size, s)
			}
			out, _ := Squeeze(begun(t, kind), size)
			if !Fit(out) || !out.Out || size > 0 && out.At != (size-1)%block+1 {
				t.Fatalf("kind %d, %d bytes squeezed: %+v", kind, size, out)
			}
		}
	}
}

// Rules 0.1 and 0.4: what is not fit is answered by nothing, and does no harm.
func TestNotFit(t *testing.T) {
	r := rand.New(rand.NewSource(98))
	for i := range 3000 {
		kind := kinds[i%4]
		s := drawnSponge(r, kind, i/4%2 == 1)
		switch i / 8 % 5 {
		case 0:
			s.Kind = otherKinds[r.Intn(len(otherKinds))]
		case 1:
			s.At = -1 - r.Intn(300)
		case 2:
			s.At = ruledBlock[kind] + 1 + r.Intn(300)
		case 3:
			s.At, s.Out = ruledBlock[kind], false
		case 4:
			s.At = []int{math.MinInt, math.MaxInt, 200, 1 << 32, -1 << 32}[r.Intn(5)]
		}
		b := drawn(int64(i), r.Intn(400))
		out, told := Squeeze(s, []int{-1, 0, 1, 300, 1 << 24, math.MaxInt}[r.Intn(6)])
		if Fit(s) || Absorb(s, b) != (api.Sponge{}) || out != (api.Sponge{}) || told != nil {
			t.Fatalf("what is not fit: %+v", s)
		}
	}
}

// Rule 0.5: what goes in is not changed, and what comes out is new memory.
func TestNothingShared(t *testing.T) {
	for _, kind := range kinds {
		for _, size := range []int{0, 1, 71, 72, 136, 168, 300} {
			room := drawn(1, 600)
			was := slices.Clone(room)
			s := Absorb(begun(t, kind), room[:size])
			kept := s
			more, first := Squeeze(s, 300)
			_, second := Squeeze(s, 300)
			total, _ := Sum(kind, room[:size], 300)
			if !bytes.Equal(room, was) || s != kept {
				t.Errorf("kind %d, %d bytes: an argument was changed", kind, size)
			}
			for _, out := range [][]byte{first, total} {
				for i := range out {
					out[i]++
				}
			}
			if want := ruledSum(kind, was[:size], 300); !bytes.Equal(second, want) || !bytes.Equal(room, was) {
				t.Errorf("kind %d, %d bytes: what was told shares memory", kind, size)
			}
			clear(room)
			if again, third := Squeeze(s, 300); again != more || !bytes.Equal(third, second) {
				t.Errorf("kind %d, %d bytes: the sum changed with the text", kind, size)
			}
		}
	}
}
