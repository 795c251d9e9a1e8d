package sha

import (
	"bytes"
	"crypto/sha256"
	"crypto/sha512"
	"encoding"
	"encoding/binary"
	"hash"
	"math"
	"math/rand"
	"slices"
	"testing"

	"apostille/api"
)

// drawnHash is a fit sum that goes on, of any words, and of a size below a bound.
func drawnHash(r *rand.Rand, kind int, bound uint64) api.Hash {
	h := api.Hash{Kind: kind, Size: r.Uint64() % bound}
	for i := range h.Words {
		h.Words[i] = r.Uint64()
		if kind == api.HaSha256 {
			h.Words[i] &= math.MaxUint32
		}
	}
	h.Tail = make([]byte, h.Size%uint64(blockSize(kind)))
	r.Read(h.Tail)
	return h
}

// libraryHash is the library's sum of a kind.
func libraryHash(kind int) hash.Hash {
	switch kind {
	case api.HaSha256:
		return sha256.New()
	case api.HaSha384:
		return sha512.New384()
	}
	return sha512.New()
}

// libraryAt is the library's sum that goes on from where ours stands: what it stores is a name of 4 bytes, the words, a block, and the size.
func libraryAt(t *testing.T, h api.Hash) hash.Hash {
	t.Helper()
	l := libraryHash(h.Kind)
	stored, err := l.(encoding.BinaryMarshaler).MarshalBinary()
	if err != nil {
		t.Fatal(err)
	}
	b := stored[:4:4]
	for _, w := range h.Words {
		if h.Kind == api.HaSha256 {
			b = binary.BigEndian.AppendUint32(b, uint32(w))
		} else {
			b = binary.BigEndian.AppendUint64(b, w)
		}
	}
	b = append(b, h.Tail...)
	b = append(b, make([]byte, blockSize(h.Kind)-len(h.Tail))...)
	b = binary.BigEndian.AppendUint64(b, h.Size)
	if err := l.(encoding.BinaryUnmarshaler).UnmarshalBinary(b); err != nil {
		t.Fatal(err)
	}
	return l
}

// P7.2

func TestEndGoesByTheLibrary(t *testing.T) {
	r := rand.New(rand.NewSource(72))
	for _, kind := range kinds {
		for i := range 3000 {
			h := drawnHash(r, kind, 1<<(i%60+1))
			if got, want := End(h), libraryAt(t, h).Sum(nil); !bytes.Equal(got, want) {
				t.Fatalf("End of %+v: %x, want %x", h, got, want)
			}
		}
	}
}

// Each place of the last block's end, with a size that fills most of its bytes.
func TestEndOfEachTail(t *testing.T) {
	for _, kind := range kinds {
		block := blockSize(kind)
		for n := range block {
			h := begun(t, kind)
			h.Tail = drawn(int64(n), n)
			h.Size = 0x0fedcba987654300 + uint64(n)
			if got, want := End(h), libraryAt(t, h).Sum(nil); !bytes.Equal(got, want) {
				t.Errorf("End of kind %d and a tail of %d: %x, want %x", kind, n, got, want)
			}
		}
	}
}

func TestAddGoesByTheLibrary(t *testing.T) {
	r := rand.New(rand.NewSource(73))
	for _, kind := range kinds {
		for i := range 3000 {
			h := drawnHash(r, kind, 1<<(i%59+1))
			l := libraryAt(t, h)
			b := drawn(int64(i), r.Intn(5*blockSize(kind)))
			l.Write(b)
			more := Add(h, b)
			if !Fit(more) || more.Size != h.Size+uint64(len(b)) {
				t.Fatalf("Add of %d bytes to %+v: %+v", len(b), h, more)
			}
			if got, want := End(more), l.Sum(nil); !bytes.Equal(got, want) {
				t.Fatalf("Add of %d bytes to %+v: %x, want %x", len(b), h, got, want)
			}
		}
	}
}

// Every tail meets every length up to two blocks and a half.
func TestAddOfEachLengthToEachTail(t *testing.T) {
	for _, kind := range kinds {
		block := blockSize(kind)
		b := drawn(int64(kind), 4*block)
		for n := range block {
			h := Add(begun(t, kind), b[:n])
			for m := range 5 * block / 2 {
				more := Add(h, b[n:n+m])
				whole := Add(begun(t, kind), b[:n+m])
				if !Same(more, whole) || !bytes.Equal(more.Tail, b[(n+m)/block*block:n+m]) {
					t.Fatalf("kind %d, %d bytes behind %d: %+v, want %+v", kind, m, n, more, whole)
				}
			}
		}
	}
}

func TestAddTellsAllFields(t *testing.T) {
	for _, kind := range kinds {
		block := blockSize(kind)
		h := begun(t, kind)
		if got := Add(h, nil); !Same(got, h) || got.Tail != nil {
			t.Errorf("Add of nothing: %+v", got)
		}
		b := drawn(3, block)
		most := Add(h, b[:block-1])
		if most.Kind != kind || most.Words != h.Words || !bytes.Equal(most.Tail, b[:block-1]) || most.Size != uint64(block-1) {
			t.Errorf("Add of a block less a byte: %+v", most)
		}
		full := Add(most, b[block-1:])
		if full.Kind != kind || full.Words == h.Words || full.Tail != nil || full.Size != uint64(block) {
			t.Errorf("Add of the byte that fills up a block: %+v", full)
		}
	}
}

// P7.3

func TestSumOfTwoParts(t *testing.T) {
	for _, kind := range kinds {
		for _, size := range []int{0, 1, 55, 56, 63, 64, 65, 111, 112, 119, 120, 127, 128, 129, 239, 240, 255, 256, 257, 400} {
			b := drawn(int64(size), size)
			want, _ := Sum(kind, b)
			for cut := range size + 1 {
				got := End(Add(Add(begun(t, kind), b[:cut]), b[cut:]))
				if !bytes.Equal(got, want) {
					t.Fatalf("kind %d, %d bytes cut at %d: %x, want %x", kind, size, cut, got, want)
				}
			}
		}
	}
}

func TestSumOfManyParts(t *testing.T) {
	r := rand.New(rand.NewSource(74))
	for _, kind := range kinds {
		for i := range 400 {
			b := drawn(int64(i), r.Intn(3000))
			want, _ := Sum(kind, b)
			h, rest, most := begun(t, kind), b, 1+r.Intn(400)
			for len(rest) > 0 {
				n := min(len(rest), r.Intn(most+1)) // empty parts among them
				h = Add(h, rest[:n])
				rest = rest[n:]
				if !Fit(h) {
					t.Fatalf("not fit: %+v", h)
				}
			}
			if got := End(h); !bytes.Equal(got, want) || !Same(h, Add(begun(t, kind), b)) {
				t.Fatalf("kind %d, %d bytes in parts: %x, want %x", kind, len(b), got, want)
			}
		}
	}
}

func TestSumOfSingleBytes(t *testing.T) {
	b := drawn(75, 700)
	for _, kind := range kinds {
		h := begun(t, kind)
		for i, x := range b {
			if got, want := End(h), librarySum(kind, b[:i]); !bytes.Equal(got, want) {
				t.Fatalf("kind %d, %d bytes: %x, want %x", kind, i, got, want)
			}
			h = Add(h, []byte{x})
		}
	}
}

// P7.4

func TestWhatGoesOnStaysFit(t *testing.T) {
	r := rand.New(rand.NewSource(76))
	for _, kind := range kinds {
		if !Fit(begun(t, kind)) {
			t.Errorf("New(%d) is not fit", kind)
		}
		for i := range 2000 {
			h := drawnHash(r, kind, 1<<(i%59+1))
			for range 4 {
				if h = Add(h, drawn(int64(i), r.Intn(300))); !Fit(h) {
					t.Fatalf("not fit: %+v", h)
				}
			}
		}
	}
}

// The greatest size is still fit; beyond it the size is told as it is, and is not.
func TestTheGreatestSize(t *testing.T) {
	for _, kind := range kinds {
		block := blockSize(kind)
		h := begun(t, kind)
		h.Size = 1<<60 - uint64(block)
		most := Add(h, drawn(1, block-1))
		if !Fit(most) || most.Size != 1<<60-1 {
			t.Errorf("up to the greatest size: %+v", most)
		}
		if got, want := End(most), libraryAt(t, most).Sum(nil); !bytes.Equal(got, want) {
			t.Errorf("End of the greatest size: %x, want %x", got, want)
		}
		beyond := Add(most, []byte{1})
		if Fit(beyond) || beyond.Size != 1<<60 {
			t.Errorf("beyond the greatest size: %+v", beyond)
		}
	}
}

// Rules 0.1 and 0.4: what is not fit is answered by nothing, and does no harm.
func TestNotFit(t *testing.T) {
	r := rand.New(rand.NewSource(77))
	for i := range 3000 {
		h := drawnHash(r, kinds[i%3], 1<<60)
		switch i / 3 % 5 {
		case 0:
			h.Kind = otherKinds[r.Intn(len(otherKinds))]
		case 1:
			h.Tail = append(h.Tail, make([]byte, 1+r.Intn(500))...)
		case 2:
			h.Tail, h.Size = nil, h.Size|1
		case 3:
			h.Size |= 1 << (60 + r.Intn(4))
		case 4:
			h.Kind, h.Size = api.HaSha256, 0
			h.Tail = nil
			h.Words[r.Intn(8)] |= 1 << (32 + r.Intn(32))
		}
		b := drawn(int64(i), r.Intn(300))
		if Fit(h) || !isZero(Add(h, b)) || End(h) != nil {
			t.Fatalf("what is not fit: %+v", h)
		}
	}
}

// Rule 0.5: what goes in is not changed, and what comes out is new memory.
func TestNothingShared(t *testing.T) {
	for _, kind := range kinds {
		block := blockSize(kind)
		for _, n := range []int{0, 1, block / 2, block - 1} {
			for _, m := range []int{0, 1, block/2 - 1, block, block + 1, 3 * block} {
				room := drawn(1, 4*block)
				text := drawn(2, 4*block)
				roomWas, textWas := slices.Clone(room), slices.Clone(text)
				h := Add(begun(t, kind), room[:n])
				h.Tail = room[:n] // with room behind, which an append would write to
				more := Add(h, text[:m])
				sum, ended := End(more), End(h)
				total, _ := Sum(kind, text[:m])
				for _, out := range [][]byte{more.Tail, sum, ended, total} {
					scribble(out[:cap(out)])
				}
				if !bytes.Equal(room, roomWas) || !bytes.Equal(text, textWas) {
					t.Errorf("kind %d, %d and %d bytes: an argument was changed", kind, n, m)
				}
				if again := Add(h, text[:m]); !bytes.Equal(End(again), librarySum(kind, slices.Concat(room[:n], text[:m]))) {
					t.Errorf("kind %d, %d and %d bytes: what was told shares memory", kind, n, m)
				}
			}
		}
	}
}

// What was told stays as it is, whatever becomes of the text behind it.
func TestTailIsKeptApart(t *testing.T) {
	for _, kind := range kinds {
		b := drawn(4, 300)
		want := librarySum(kind, b)
		h := Add(begun(t, kind), b)
		scribble(b)
		if got := End(h); !bytes.Equal(got, want) {
			t.Errorf("kind %d: the tail changed with the text", kind)
		}
	}
}

// scribble changes every byte.
func scribble(b []byte) {
	for i := range b {
		b[i]++
	}
}
