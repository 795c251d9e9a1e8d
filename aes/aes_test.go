package aes

import (
	"bytes"
	library "crypto/aes"
	modes "crypto/cipher"
	"encoding/hex"
	"math/rand"
	"slices"
	"strings"
	"testing"

	"apostille/api"
)

// expect fails unless a call told so.
func expect(t *testing.T, what string, got []byte, e api.Errno, want []byte) {
	t.Helper()
	if e != api.OK || !bytes.Equal(got, want) {
		t.Errorf("%s: %x, %v; want %x", what, short(got), e, short(want))
	}
}

// expectError fails unless a call told so, and nothing beside.
func expectError(t *testing.T, what string, got []byte, e, want api.Errno) {
	t.Helper()
	if e != want || got != nil {
		t.Errorf("%s: %d bytes, %v; want %v", what, len(got), e, want)
	}
}

// short is the first bytes of a text, as many as are worth a line.
func short(b []byte) []byte {
	return b[:min(len(b), 200)]
}

// unhex is bytes out of their digits, which may stand apart.
func unhex(t *testing.T, s string) []byte {
	t.Helper()
	b, err := hex.DecodeString(strings.ReplaceAll(s, " ", ""))
	if err != nil {
		t.Fatal(err)
	}
	return b
}

// counted is bytes from 0 on.
func counted(size int) []byte {
	b := make([]byte, size)
	for i := range b {
		b[i] = byte(i)
	}
	return b
}

// libraryBlock is the library's cipher by a key.
func libraryBlock(t *testing.T, key []byte) modes.Block {
	t.Helper()
	c, err := library.NewCipher(key)
	if err != nil {
		t.Fatal(err)
	}
	return c
}

// libraryChain is the library's chain of whole blocks, which are not filled up.
func libraryChain(t *testing.T, key, first, blocks []byte) []byte {
	t.Helper()
	out := make([]byte, len(blocks))
	modes.NewCBCEncrypter(libraryBlock(t, key), first).CryptBlocks(out, blocks)
	return out
}

func TestTheChaptersExamples(t *testing.T) {
	if got := Box(0); got != 99 {
		t.Errorf("Box(0): %d", got)
	}
	if got := Box(83); got != 237 {
		t.Errorf("Box(83): %d", got)
	}
	if got := Mul(0x57, 0x83); got != 0xc1 {
		t.Errorf("Mul(0x57, 0x83): %x", got)
	}
	got, e := Block(make([]byte, 15), make([]byte, 16))
	expectError(t, "Block of a key of 15 bytes", got, e, api.ErrKey)
}

// P10.1

func TestMulOfAllBytes(t *testing.T) {
	for a := range 256 {
		for b := range 256 {
			if got, want := Mul(byte(a), byte(b)), ruledMul(byte(a), byte(b)); got != want {
				t.Fatalf("Mul(%x, %x): %x, want %x", a, b, got, want)
			}
		}
	}
}

func TestBoxOfAllBytes(t *testing.T) {
	for c := range 256 {
		if got, want := Box(byte(c)), ruledBox(byte(c)); got != want {
			t.Errorf("Box(%x): %x, want %x", c, got, want)
		}
	}
}

// The first and the last row of the table of FIPS 197.
func TestBoxOfTheStandard(t *testing.T) {
	first := unhex(t, "637c777bf26b6fc53001672bfed7ab76")
	last := unhex(t, "8ca1890dbfe6426841992d0fb054bb16")
	for i := range 16 {
		if got := Box(byte(i)); got != first[i] {
			t.Errorf("Box(%x): %x, want %x", i, got, first[i])
		}
		if got := Box(byte(0xf0 + i)); got != last[i] {
			t.Errorf("Box(%x): %x, want %x", 0xf0+i, got, last[i])
		}
	}
}

// P10.2

// expectBlock fails unless Block tells so, and Back tells the way back.
func expectBlock(t *testing.T, key, b, want []byte) {
	t.Helper()
	got, e := Block(key, b)
	expect(t, "Block", got, e, want)
	got, e = Back(key, want)
	expect(t, "Back", got, e, b)
}

// The examples of FIPS 197.
func TestBlockOfTheStandard(t *testing.T) {
	b := unhex(t, "00112233445566778899aabbccddeeff")
	expectBlock(t, counted(16), b, unhex(t, "69c4e0d86a7b0430d8cdb78070b4c55a"))
	expectBlock(t, counted(24), b, unhex(t, "dda97ca4864cdfe06eaf70a0ec0d7191"))
	expectBlock(t, counted(32), b, unhex(t, "8ea2b7ca516745bfeafc49904b496089"))
	expectBlock(t, unhex(t, "2b7e151628aed2a6abf7158809cf4f3c"), unhex(t, "3243f6a8885a308d313198a2e0370734"), unhex(t, "3925841d02dc09fbdc118597196a0b32"))
}

func TestBlockGoesByTheRuleAndTheLibrary(t *testing.T) {
	r := rand.New(rand.NewSource(101))
	for _, size := range keySizes {
		for range 300 {
			key, b := drawn(r.Int63(), size), drawn(r.Int63(), 16)
			want := make([]byte, 16)
			libraryBlock(t, key).Encrypt(want, b)
			if !bytes.Equal(want, ruledBlock(key, b)) || !bytes.Equal(b, ruledUnblock(key, want)) {
				t.Fatalf("key %x: the rule and the library differ", key)
			}
			expectBlock(t, key, b, want)
		}
	}
}

// Keys and blocks of 0, of 255, and of these with one bit changed.
func TestBlockOfEachBit(t *testing.T) {
	for _, size := range keySizes {
		for _, x := range []byte{0, 255} {
			key, b, want := bytes.Repeat([]byte{x}, size), bytes.Repeat([]byte{x}, 16), make([]byte, 16)
			same := libraryBlock(t, key)
			same.Encrypt(want, b)
			expectBlock(t, key, b, want)
			for i := range 8 * size {
				other := slices.Clone(key)
				other[i/8] ^= 0x80 >> (i % 8)
				libraryBlock(t, other).Encrypt(want, b)
				expectBlock(t, other, b, want)
			}
			for i := range 128 {
				other := slices.Clone(b)
				other[i/8] ^= 0x80 >> (i % 8)
				same.Encrypt(want, other)
				expectBlock(t, key, other, want)
			}
		}
	}
}

func TestKeysOfAnotherLength(t *testing.T) {
	var sizes []int
	for size := range 300 {
		sizes = append(sizes, size)
	}
	for _, size := range append(sizes, 1024, 4096, 1<<16, 1<<16+16) {
		if slices.Contains(keySizes, size) {
			continue
		}
		key := make([]byte, size)
		// Rule 0.2: the key is asked first, whatever else is wrong.
		for _, other := range []int{0, 1, 15, 16, 17, 32} {
			expectNoKey(t, key, make([]byte, other), make([]byte, 32))
		}
		expectNoKey(t, key, make([]byte, 16), nil)
		expectNoKey(t, key, nil, nil)
	}
	expectNoKey(t, nil, nil, nil)
	expectNoKey(t, nil, make([]byte, 16), make([]byte, 1<<20+1))
	expectNoKey(t, make([]byte, 17), make([]byte, 15), make([]byte, 1<<20+32))
}

// expectNoKey fails unless each call says that there is no such key.
func expectNoKey(t *testing.T, key, block, text []byte) {
	t.Helper()
	got, e := Block(key, block)
	expectError(t, "Block", got, e, api.ErrKey)
	got, e = Back(key, block)
	expectError(t, "Back", got, e, api.ErrKey)
	got, e = Chain(key, block, text)
	expectError(t, "Chain", got, e, api.ErrKey)
	got, e = Unchain(key, block, text)
	expectError(t, "Unchain", got, e, api.ErrKey)
}

func TestBlocksOfAnotherLength(t *testing.T) {
	for _, keySize := range keySizes {
		key := counted(keySize)
		for _, size := range []int{0, 1, 2, 4, 8, 12, 14, 15, 17, 18, 24, 31, 32, 33, 48, 255, 256, 272, 1 << 16, 1<<16 + 16} {
			b := make([]byte, size)
			got, e := Block(key, b)
			expectError(t, "Block", got, e, api.ErrSize)
			got, e = Back(key, b)
			expectError(t, "Back", got, e, api.ErrSize)
			// What a chain begins with is asked ahead of how long its text is, and how it is filled up.
			for _, textSize := range []int{0, 1, 16, 17, 1 << 20, 1<<20 + 1, 1<<20 + 16, 1<<20 + 32} {
				got, e = Chain(key, b, make([]byte, textSize))
				expectError(t, "Chain", got, e, api.ErrSize)
				got, e = Unchain(key, b, make([]byte, textSize))
				expectError(t, "Unchain", got, e, api.ErrSize)
			}
		}
		got, e := Block(key, nil)
		expectError(t, "Block", got, e, api.ErrSize)
		got, e = Back(key, nil)
		expectError(t, "Back", got, e, api.ErrSize)
		got, e = Chain(key, nil, nil)
		expectError(t, "Chain", got, e, api.ErrSize)
		got, e = Unchain(key, nil, nil)
		expectError(t, "Unchain", got, e, api.ErrSize)
	}
}

// P10.3

// The examples of NIST SP 800-38A, behind which there is a block of filling here.
func TestChainOfTheStandard(t *testing.T) {
	plain := unhex(t, "6bc1bee22e409f96e93d7e117393172a ae2d8a571e03ac9c9eb76fac45af8e51 30c81c46a35ce411e5fbc1191a0a52ef f69f2445df4f9b17ad2b417be66c3710")
	for _, x := range []struct{ key, want string }{
		{"2b7e151628aed2a6abf7158809cf4f3c",
			"7649abac8119b246cee98e9b12e9197d 5086cb9b507219ee95db113a917678b2 73bed6b8e3c1743b7116e69e22229516 3ff1caa1681fac09120eca307586e1a7"},
		{"8e73b0f7da0e6452c810f32b809079e562f8ead2522c6b7b",
			"4f021db243bc633d7178183a9fa071e8 b4d9ada9ad7dedf4e5e738763f69145a 571b242012fb7ae07fa9baac3df102e0 08b0e27988598881d920a9e64f5615cd"},
		{"603deb1015ca71be2b73aef0857d77811f352c073b6108d72d9810a30914dff4",
			"f58c4c04d6e5f1ba779eabfb5f7bfbd6 9cfc4e967edb808d679f777bc6702c7d 39f23369a9d9bacfa530e26304231461 b2eb05e2c39be9fcda6c19078c6a9d1b"},
	} {
		key, want := unhex(t, x.key), unhex(t, x.want)
		filling := bytes.Repeat([]byte{16}, 16)
		want = append(want, ruledBlock(key, xored(filling, want[48:]))...)
		got, e := Chain(key, counted(16), plain)
		expect(t, "Chain", got, e, want)
		got, e = Unchain(key, counted(16), want)
		expect(t, "Unchain", got, e, plain)
	}
}

// Texts of every length of the first few blocks, held against the chapter's rule and against the library.
func TestChainOfEachLength(t *testing.T) {
	r := rand.New(rand.NewSource(102))
	for _, keySize := range keySizes {
		for size := range 100 {
			key, first, plain := drawn(r.Int63(), keySize), drawn(r.Int63(), 16), drawn(r.Int63(), size)
			want := libraryChain(t, key, first, ruledFilled(plain))
			ahead := first
			for i, block := range slices.Collect(slices.Chunk(ruledFilled(plain), 16)) {
				ahead = ruledBlock(key, xored(block, ahead))
				if !bytes.Equal(ahead, want[16*i:16*i+16]) {
					t.Fatalf("key %x: the rule and the library differ", key)
				}
			}
			got, e := Chain(key, first, plain)
			expect(t, "Chain", got, e, want)
			got, e = Unchain(key, first, want)
			expect(t, "Unchain", got, e, plain)
		}
	}
}

// A text that ends as if it were filled up already is filled up all the same.
func TestChainOfFillingBytes(t *testing.T) {
	key, first := drawn(1, 16), drawn(2, 16)
	for n := range 40 {
		for size := range 50 {
			plain := bytes.Repeat([]byte{byte(n)}, size)
			want := libraryChain(t, key, first, ruledFilled(plain))
			got, e := Chain(key, first, plain)
			expect(t, "Chain", got, e, want)
			got, e = Unchain(key, first, want)
			expect(t, "Unchain", got, e, plain)
		}
	}
}

func TestTheLongestTexts(t *testing.T) {
	for i, keySize := range keySizes {
		key, first, plain := drawn(int64(i), keySize), drawn(3, 16), drawn(4, api.MaxPlain)
		for _, size := range []int{1 << 20, 1<<20 - 1, 1<<20 - 15, 1<<20 - 16, 1<<20 - 17} {
			want := libraryChain(t, key, first, ruledFilled(plain[:size]))
			got, e := Chain(key, first, plain[:size])
			expect(t, "Chain", got, e, want)
			got, e = Unchain(key, first, want)
			expect(t, "Unchain", got, e, plain[:size])
		}
	}
}

func TestChainOfTooLongAText(t *testing.T) {
	for _, keySize := range keySizes {
		for _, size := range []int{1<<20 + 1, 1<<20 + 15, 1<<20 + 16, 1<<20 + 17, 1 << 21, 1 << 24} {
			got, e := Chain(counted(keySize), counted(16), make([]byte, size))
			expectError(t, "Chain", got, e, api.ErrLong)
		}
	}
}

func TestUnchainOfTooLongAText(t *testing.T) {
	for _, keySize := range keySizes {
		key, first := counted(keySize), counted(16)
		for _, size := range []int{1<<20 + 32, 1<<20 + 48, 1 << 21, 1 << 24} {
			got, e := Unchain(key, first, make([]byte, size))
			expectError(t, "Unchain", got, e, api.ErrLong)
			// That it is filled up as it should be makes it no shorter.
			got, e = Unchain(key, first, libraryChain(t, key, first, ruledFilled(make([]byte, size-16))))
			expectError(t, "Unchain", got, e, api.ErrLong)
		}
	}
}

// Rule 0.2: whether there are whole blocks is asked ahead of how many there are.
func TestUnchainOfNoWholeBlocks(t *testing.T) {
	for _, keySize := range keySizes {
		key, first := counted(keySize), counted(16)
		for size := range 200 {
			if size%16 != 0 || size == 0 {
				got, e := Unchain(key, first, make([]byte, size))
				expectError(t, "Unchain", got, e, api.ErrSize)
			}
		}
		for _, size := range []int{1<<20 - 1, 1<<20 + 1, 1<<20 + 15, 1<<20 + 17, 1<<20 + 31, 1<<20 + 33, 1<<24 + 1} {
			got, e := Unchain(key, first, make([]byte, size))
			expectError(t, "Unchain", got, e, api.ErrSize)
		}
		got, e := Unchain(key, first, nil)
		expectError(t, "Unchain of nil", got, e, api.ErrSize)
		got, e = Unchain(key, first, []byte{})
		expectError(t, "Unchain of nothing", got, e, api.ErrSize)
	}
}

// All of a text is one byte: it is filled up so where that is from 1 to 16, and not where it is more, though there may be so many of them.
func TestUnchainOfOneByteAllOver(t *testing.T) {
	key, first := drawn(5, 24), drawn(6, 16)
	for n := range 256 {
		for _, size := range []int{16, 32, 48, 256, 272} {
			filled := bytes.Repeat([]byte{byte(n)}, size)
			got, e := Unchain(key, first, libraryChain(t, key, first, filled))
			if n < 1 || n > 16 {
				expectError(t, "Unchain", got, e, api.ErrPad)
			} else {
				expect(t, "Unchain", got, e, filled[:size-n])
			}
		}
	}
}

// Each byte of the filling spoilt, in each bit; the byte ahead of it is the text's own.
func TestUnchainOfSpoiltFilling(t *testing.T) {
	for _, keySize := range keySizes {
		key, first := drawn(7, keySize), drawn(8, 16)
		for n := 1; n <= 16; n++ {
			for _, size := range []int{16, 32} {
				text := bytes.Repeat([]byte{0xee}, size-n)
				filled := slices.Concat(text, bytes.Repeat([]byte{byte(n)}, n))
				for i := 2; i <= n; i++ {
					for bit := range 8 {
						spoilt := slices.Clone(filled)
						spoilt[size-i] ^= 1 << bit
						got, e := Unchain(key, first, libraryChain(t, key, first, spoilt))
						expectError(t, "Unchain", got, e, api.ErrPad)
					}
				}
				if n < size {
					filled[size-n-1] = byte(n)
					got, e := Unchain(key, first, libraryChain(t, key, first, filled))
					expect(t, "Unchain", got, e, filled[:size-n])
				}
			}
		}
	}
}

// The last byte is each one, behind bytes that are no filling: it fills up by itself where it is 1.
func TestUnchainOfEachLastByte(t *testing.T) {
	key, first := drawn(9, 32), drawn(10, 16)
	for n := range 256 {
		filled := append(bytes.Repeat([]byte{0xfe}, 31), byte(n))
		got, e := Unchain(key, first, libraryChain(t, key, first, filled))
		if n == 1 {
			expect(t, "Unchain", got, e, filled[:31])
		} else {
			expectError(t, "Unchain", got, e, api.ErrPad)
		}
	}
}

// Rule 0.7: a text of no bytes is none; it takes a whole block all the same.
func TestNoText(t *testing.T) {
	for _, keySize := range keySizes {
		key, first := drawn(11, keySize), drawn(12, 16)
		want := libraryChain(t, key, first, bytes.Repeat([]byte{16}, 16))
		for _, plain := range [][]byte{nil, {}} {
			got, e := Chain(key, first, plain)
			expect(t, "Chain of nothing", got, e, want)
		}
		if got, e := Unchain(key, first, want); e != api.OK || got != nil {
			t.Errorf("Unchain to nothing: %v, %v", got, e)
		}
	}
}
