package gcm

import (
	"bytes"
	library "crypto/aes"
	"encoding/binary"
	"math/rand"
	"slices"
	"testing"

	"apostille/api"
)

// P12.4

func TestTextsThereAndBack(t *testing.T) {
	r := rand.New(rand.NewSource(125))
	for _, keySize := range keySizes {
		for range 300 {
			key, nonce := drawn(r.Int63(), keySize), drawn(r.Int63(), 12)
			beside, plain := drawn(r.Int63(), r.Intn(80)), drawn(r.Int63(), r.Intn(80))
			sealed, e := Seal(key, nonce, beside, plain)
			if e != api.OK || len(sealed) != len(plain)+16 {
				t.Fatalf("Seal of %d bytes: %d bytes, %v", len(plain), len(sealed), e)
			}
			got, e := Open(key, nonce, beside, sealed)
			expect(t, "Open of Seal", got, e, plain)
		}
	}
}

// Whatever bytes are read as a text, they are the ones that it is sealed to. Those of the library are read, drawn ones are not.
func TestSealOfWhatOpenTells(t *testing.T) {
	r := rand.New(rand.NewSource(126))
	for _, keySize := range keySizes {
		for range 300 {
			key, nonce := drawn(r.Int63(), keySize), drawn(r.Int63(), 12)
			beside, size := drawn(r.Int63(), r.Intn(80)), r.Intn(80)
			b := librarySeal(t, key, nonce, beside, drawn(r.Int63(), size))
			plain, e := Open(key, nonce, beside, b)
			if e != api.OK || len(plain) != size {
				t.Fatalf("Open of %d bytes: %d bytes, %v", len(b), len(plain), e)
			}
			got, e := Seal(key, nonce, beside, plain)
			expect(t, "Seal of what Open tells", got, e, b)
			got, e = Open(key, nonce, beside, drawn(r.Int63(), size+16))
			expectError(t, "Open of drawn bytes", got, e, api.ErrMac)
		}
	}
}

// P12.6

func TestMulInAnyOrderAndOverXor(t *testing.T) {
	r := rand.New(rand.NewSource(127))
	for range 1000 {
		a, b, c := drawn(r.Int63(), 16), drawn(r.Int63(), 16), drawn(r.Int63(), 16)
		expectBlock(t, "the other way round", Mul(a, b), Mul(b, a))
		expectBlock(t, "other brackets", Mul(Mul(a, b), c), Mul(a, Mul(b, c)))
		expectBlock(t, "over xor", Mul(a, xored(b, c)), xored(Mul(a, b), Mul(a, c)))
		expectBlock(t, "over xor, ahead", Mul(xored(a, b), c), xored(Mul(a, c), Mul(b, c)))
	}
}

// The sum of two rows is that of the second, whose first block has that of the first xored to it.
func TestGhashGoesOn(t *testing.T) {
	r := rand.New(rand.NewSource(128))
	for range 300 {
		h, first, second := drawn(r.Int63(), 16), drawn(r.Int63(), 16*r.Intn(6)), drawn(r.Int63(), 16+16*r.Intn(6))
		whole := Ghash(h, slices.Concat(first, second))
		on := slices.Concat(xored(second[:16], Ghash(h, first)), second[16:])
		expectBlock(t, "Ghash that goes on", Ghash(h, on), whole)
		expectBlock(t, "Ghash of one block", Ghash(h, whole), Mul(whole, h))
	}
}

// A sum goes on from where it is, by the method that was handed about, and what it was as a value stays so.
func TestSumsAreHandedAbout(t *testing.T) {
	h, row := drawn(31, 16), drawn(32, 96)
	for at := 0; at <= len(row); at += 16 {
		s := sum{h: read(h)}
		add := s.add
		filledUp(row[:at], add)
		was := s
		filledUp(row[at:], add)
		expectBlock(t, "the whole sum", s.total.bytes(), Ghash(h, row))
		expectBlock(t, "the sum on the way", was.total.bytes(), Ghash(h, row[:at]))
		filledUp(row[at:], was.add)
		expectBlock(t, "the sum that goes on from a value", was.total.bytes(), Ghash(h, row))
	}
}

// What is no whole blocks is filled up with 0 behind.
func TestTextsAreFilledUp(t *testing.T) {
	for size := range 50 {
		b := drawn(33, size+16)
		var got []byte
		filledUp(b[:size], func(x block) { got = append(got, x.bytes()...) })
		want := slices.Concat(b[:size], make([]byte, -size&15))
		if !bytes.Equal(got, want) {
			t.Errorf("%d bytes are filled up to %x", size, got)
		}
	}
}

// The stream's blocks: numbers from 2 on, as many as are wanted, and as often; nobody sees an end.
func TestTheStreamIsHandedOut(t *testing.T) {
	for _, keySize := range keySizes {
		key, nonce := drawn(34, keySize), drawn(35, 12)
		c, err := library.NewCipher(key)
		if err != nil {
			t.Fatal(err)
		}
		all := stream(key, nonce)
		for _, wanted := range []int{0, 1, 2, 3, 300, 1} {
			count := 0
			for got := range all {
				if count == wanted {
					break
				}
				want := make([]byte, 16)
				c.Encrypt(want, binary.BigEndian.AppendUint32(slices.Clone(nonce), uint32(count+2)))
				if !bytes.Equal(got, want) {
					t.Errorf("block %d: %x; want %x", count, got, want)
				}
				count++
			}
			if count != wanted {
				t.Errorf("%d blocks, want %d", count, wanted)
			}
		}
	}
	count := 0
	for range stream(counted(16), counted(12)) {
		count++
		if count == 1<<17 { // more than the longest text takes
			break
		}
	}
	if count != 1<<17 {
		t.Errorf("the stream ends behind %d blocks", count)
	}
}

// Rule 0.5: what goes in is not changed, what comes out is new memory, and nothing is kept.
func TestNothingShared(t *testing.T) {
	for _, keySize := range keySizes {
		for _, size := range []int{0, 1, 16, 21, 48} {
			// There is room behind what is given, which an append would write to.
			given := [][]byte{drawn(41, 64), drawn(42, 64), drawn(43, 100), drawn(44, 100), nil, drawn(45, 100)}
			key, nonce, beside, plain, spoilt := given[0][:keySize], given[1][:12], given[2][:size], given[3][:size], given[5][:size+16]
			given[4] = slices.Concat(librarySeal(t, key, nonce, beside, plain), drawn(46, 64))
			sealed, h, row := given[4][:size+16], given[2][:16], given[3][:size/16*16]
			was := make([][]byte, len(given))
			for i, b := range given {
				was[i] = slices.Clone(b)
			}
			calls := func() [][]byte {
				there, _ := Seal(key, nonce, beside, plain)
				back, _ := Open(key, nonce, beside, sealed)
				none, _ := Open(key, nonce, beside, spoilt)
				return [][]byte{there, back, none, Mul(h, key[:16]), Ghash(h, row)}
			}
			told := calls()
			want := make([][]byte, len(told))
			for i, out := range told {
				want[i] = slices.Clone(out)
				scribble(out[:cap(out)])
			}
			for i, b := range given {
				if !bytes.Equal(b, was[i]) {
					t.Errorf("key of %d, %d bytes: argument %d was changed", keySize, size, i)
				}
			}
			for i, again := range calls() {
				if !bytes.Equal(again, want[i]) {
					t.Errorf("key of %d, %d bytes, call %d: it tells something else the second time", keySize, size, i)
				}
			}
		}
	}
}

// One text for all arguments.
func TestOneTextForAll(t *testing.T) {
	for _, keySize := range keySizes {
		b := drawn(47, keySize)
		expectBoth(t, b, b[:12], b, b, librarySeal(t, b, b[:12], b, b))
		got, e := Open(b, b[:12], b, b)
		expectError(t, "Open", got, e, api.ErrMac)
	}
	b := drawn(48, 16)
	expectBlock(t, "Mul", Mul(b, b), ruledMul(b, b))
	expectBlock(t, "Ghash", Ghash(b, b), ruledMul(b, b))
}

// scribble changes every byte.
func scribble(b []byte) {
	for i := range b {
		b[i]++
	}
}
