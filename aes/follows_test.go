package aes

import (
	"bytes"
	"math/rand"
	"slices"
	"testing"

	"apostille/api"
)

// P10.4

func TestBlocksThereAndBack(t *testing.T) {
	r := rand.New(rand.NewSource(103))
	for _, size := range keySizes {
		for range 500 {
			key, b := drawn(r.Int63(), size), drawn(r.Int63(), 16)
			there, _ := Block(key, b)
			got, e := Back(key, there)
			expect(t, "Back of Block", got, e, b)
			back, _ := Back(key, b)
			got, e = Block(key, back)
			expect(t, "Block of Back", got, e, b)
		}
	}
}

func TestChainsThereAndBack(t *testing.T) {
	r := rand.New(rand.NewSource(104))
	for _, size := range keySizes {
		for range 500 {
			key, first, plain := drawn(r.Int63(), size), drawn(r.Int63(), 16), drawn(r.Int63(), r.Intn(300))
			there, e := Chain(key, first, plain)
			if e != api.OK || len(there) != len(plain)/16*16+16 {
				t.Fatalf("Chain of %d bytes: %d bytes, %v", len(plain), len(there), e)
			}
			got, e := Unchain(key, first, there)
			expect(t, "Unchain of Chain", got, e, plain)
		}
	}
}

// Whatever bytes are read as a text, they are the ones that it is chained to. Of drawn bytes one text in some 255 is filled up so.
func TestChainOfWhatUnchainTells(t *testing.T) {
	r := rand.New(rand.NewSource(105))
	for _, size := range keySizes {
		read := 0
		for range 4000 {
			key, first, b := drawn(r.Int63(), size), drawn(r.Int63(), 16), drawn(r.Int63(), 16+16*r.Intn(3))
			text, e := Unchain(key, first, b)
			if e == api.ErrPad && text == nil {
				continue
			}
			read++
			if e != api.OK {
				t.Fatalf("Unchain of drawn bytes: %d bytes, %v", len(text), e)
			}
			got, e := Chain(key, first, text)
			expect(t, "Chain of what Unchain tells", got, e, b)
		}
		if read == 0 {
			t.Errorf("keys of %d bytes: no drawn text was read", size)
		}
	}
}

// A block that is spoilt spoils the text at it, and the same bits of the next one; the others are as they were.
func TestEachBlockHangsOnTheOneAhead(t *testing.T) {
	key, first, plain := drawn(13, 16), drawn(14, 16), drawn(15, 80)
	there, _ := Chain(key, first, plain)
	for i := range 64 {
		spoilt := slices.Clone(there)
		spoilt[i] ^= 0x40
		got, e := Unchain(key, first, spoilt)
		if e != api.OK || len(got) != 80 {
			t.Fatalf("byte %d spoilt: %d bytes, %v", i, len(got), e)
		}
		want := slices.Clone(plain)
		want[i+16] ^= 0x40
		copy(want[i/16*16:i/16*16+16], got[i/16*16:])
		expect(t, "Unchain of what is spoilt", got, e, want)
		if bytes.Equal(got[i/16*16:i/16*16+16], plain[i/16*16:i/16*16+16]) {
			t.Errorf("byte %d spoilt: its block is as it was", i)
		}
	}
	for i := range 16 {
		other := slices.Clone(first)
		other[i] ^= 0x40
		want := slices.Clone(plain)
		want[i] ^= 0x40
		got, e := Unchain(key, other, there)
		expect(t, "Unchain by another beginning", got, e, want)
	}
}

// P10.5

func TestBoxIsOneToOne(t *testing.T) {
	seen := map[byte]int{}
	for c := range 256 {
		seen[Box(byte(c))]++
	}
	if len(seen) != 256 {
		t.Errorf("Box tells %d bytes", len(seen))
	}
}

func TestMulInAnyOrderAndOverXor(t *testing.T) {
	var table [256][256]byte
	for a := range table {
		for b := range table {
			table[a][b] = Mul(byte(a), byte(b))
		}
	}
	for a, row := range table {
		for b, product := range row {
			if product != table[b][a] {
				t.Fatalf("Mul(%x, %x): %x, the other way round %x", a, b, product, table[b][a])
			}
			for c := range row {
				if row[b^c] != product^row[c] {
					t.Fatalf("Mul(%x, %x xor %x): %x, want %x", a, b, c, row[b^c], product^row[c])
				}
			}
		}
	}
}

// Rule 0.5: what goes in is not changed, what comes out is new memory, and nothing is kept.
func TestNothingShared(t *testing.T) {
	for _, keySize := range keySizes {
		for _, size := range []int{0, 1, 15, 16, 17, 32, 100} {
			// There is room behind what is given, which an append would write to.
			given := [][]byte{drawn(21, 64), drawn(22, 64), drawn(23, 200), nil}
			key, first, plain := given[0][:keySize], given[1][:16], given[2][:size]
			chained, _ := Chain(key, first, plain)
			given[3] = slices.Concat(chained, drawn(24, 64))
			chained = given[3][:len(chained)]
			was := make([][]byte, len(given))
			for i, b := range given {
				was[i] = slices.Clone(b)
			}
			calls := func() [][]byte {
				there, _ := Block(key, first)
				back, _ := Back(key, first)
				chain, _ := Chain(key, first, plain)
				text, _ := Unchain(key, first, chained)
				return [][]byte{there, back, chain, text}
			}
			told := calls()
			want := make([][]byte, len(told))
			for i, out := range told {
				want[i] = slices.Clone(out)
				scribble(out[:cap(out)])
			}
			for i, b := range given {
				if !bytes.Equal(b, was[i]) {
					t.Errorf("key of %d, %d bytes: argument %d was changed", keySize, size, i)
				}
			}
			for i, again := range calls() {
				if !bytes.Equal(again, want[i]) {
					t.Errorf("key of %d, %d bytes, call %d: it tells something else the second time", keySize, size, i)
				}
			}
		}
	}
}

// One text as all arguments at once.
func TestOneTextForAll(t *testing.T) {
	b := drawn(25, 16)
	expectBlock(t, b, b, ruledBlock(b, b))
	got, e := Chain(b, b, b)
	expect(t, "Chain", got, e, libraryChain(t, b, b, ruledFilled(b)))
	got, e = Unchain(b, b, b)
	expectError(t, "Unchain", got, e, api.ErrPad)
}

// Blocks are handed out for as long as they are wanted, and as often.
func TestBlocksAreHandedOut(t *testing.T) {
	text := drawn(26, 64)
	all := blocks(text)
	for n := 1; n <= 4; n++ {
		var out []byte
		for block := range all {
			out = block.onto(out)
			if len(out) == 16*n {
				break
			}
		}
		if !bytes.Equal(out, text[:16*n]) {
			t.Errorf("%d blocks: %x", n, out)
		}
	}
}

// scribble changes every byte.
func scribble(b []byte) {
	for i := range b {
		b[i]++
	}
}
