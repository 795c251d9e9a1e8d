package mac

import (
	"bytes"
	"math/rand"
	"slices"
	"testing"

	"apostille/api"
)

// P9.4

func TestFewerBytesOfAKey(t *testing.T) {
	r := rand.New(rand.NewSource(97))
	for _, kind := range keyKinds {
		most := 255 * Size(kind)
		for range 10 {
			key, info := drawn(r.Int63(), r.Intn(200)), drawn(r.Int63(), r.Intn(200))
			all, e := Expand(kind, key, info, most)
			if e != api.OK || len(all) != most {
				t.Fatalf("Expand of kind %d: %d bytes, %v", kind, len(all), e)
			}
			for _, n := range []int{0, 1, 2, r.Intn(most), r.Intn(most), r.Intn(5 * Size(kind)), most - 1} {
				got, e := Expand(kind, key, info, n)
				expect(t, "Expand", kind, got, e, all[:n])
			}
		}
	}
}

func TestFewerBytesOfASeed(t *testing.T) {
	r := rand.New(rand.NewSource(98))
	for _, kind := range maskKinds {
		for range 10 {
			seed, most := drawn(r.Int63(), r.Intn(300)), 1+r.Intn(20000)
			all, e := Mask(kind, seed, most)
			if e != api.OK || len(all) != most {
				t.Fatalf("Mask of kind %d: %d bytes, %v", kind, len(all), e)
			}
			for _, n := range []int{0, 1, r.Intn(most), r.Intn(most), most - 1} {
				got, e := Mask(kind, seed, n)
				expect(t, "Mask", kind, got, e, all[:n])
			}
		}
	}
}

// P9.5

// sameKey fails unless two keys tell the same, whatever is done by them.
func sameKey(t *testing.T, kind int, one, other []byte) {
	t.Helper()
	b := drawn(int64(len(one)), 50)
	want, _ := Hmac(kind, one, b)
	got, e := Hmac(kind, other, b)
	expect(t, "Hmac", kind, got, e, want)
	got, e = Extract(kind, other, b)
	expect(t, "Extract", kind, got, e, want)
	want, _ = Expand(kind, one, b, 200)
	got, e = Expand(kind, other, b, 200)
	expect(t, "Expand", kind, got, e, want)
}

func TestAKeyFilledUp(t *testing.T) {
	for _, kind := range keyKinds {
		block := ruledBlock[kind]
		for size := range block + 1 {
			key := drawn(int64(size), size)
			for _, more := range []int{1, 2, (block - size) / 2, block - size} {
				if size+more <= block {
					sameKey(t, kind, key, slices.Concat(key, make([]byte, more)))
				}
			}
		}
	}
}

// A byte 0 beyond the block makes it another key.
func TestAKeyFilledUpTooFar(t *testing.T) {
	for _, kind := range keyKinds {
		for _, size := range []int{0, 1, 32, ruledBlock[kind]} {
			key := drawn(int64(size), size)
			one, _ := Hmac(kind, key, nil)
			other, e := Hmac(kind, slices.Concat(key, make([]byte, ruledBlock[kind]-size+1)), nil)
			if e != api.OK || bytes.Equal(one, other) {
				t.Errorf("kind %d: a key of %d bytes, filled up beyond the block, is the same", kind, size)
			}
		}
	}
}

func TestALongKey(t *testing.T) {
	for _, kind := range keyKinds {
		block := ruledBlock[kind]
		for _, size := range []int{block + 1, block + 2, 2*block - 1, 2 * block, 2*block + 1, 500, 5000} {
			key := drawn(int64(size), size)
			sum, _ := Digest(kind, key)
			sameKey(t, kind, key, sum)
		}
		key := drawn(1, block)
		sum, _ := Digest(kind, key)
		one, _ := Hmac(kind, key, nil)
		other, _ := Hmac(kind, sum, nil)
		if bytes.Equal(one, other) {
			t.Errorf("kind %d: a key of a block is as its digest", kind)
		}
	}
}

// Rule 0.5: what goes in is not changed, what comes out is new memory, and nothing is kept.
func TestNothingShared(t *testing.T) {
	calls := func(kind int, one, other []byte) [][]byte {
		digest, _ := Digest(kind, one)
		sum, _ := Hmac(kind, one, other)
		key, _ := Extract(kind, one, other)
		more, _ := Expand(kind, one, other, 300)
		mask, _ := Mask(kind, one, 300)
		return [][]byte{digest, sum, key, more, mask}
	}
	for _, kind := range kinds {
		for _, size := range []int{0, 1, 32, 63, 64, 65, 128, 129, 136, 137, 200} {
			// There is room behind what is given, which an append would write to.
			one, other := drawn(1, 400), drawn(2, 400)
			oneWas, otherWas := slices.Clone(one), slices.Clone(other)
			told := calls(kind, one[:size], other[:size])
			want := make([][]byte, len(told))
			for i, out := range told {
				want[i] = slices.Clone(out)
				scribble(out[:cap(out)])
			}
			if !bytes.Equal(one, oneWas) || !bytes.Equal(other, otherWas) {
				t.Errorf("kind %d, %d bytes: an argument was changed", kind, size)
			}
			for i, again := range calls(kind, one[:size], other[:size]) {
				if !bytes.Equal(again, want[i]) {
					t.Errorf("kind %d, %d bytes, call %d: it tells something else the second time", kind, size, i)
				}
			}
		}
	}
}

// One text as all arguments at once.
func TestOneTextForAll(t *testing.T) {
	for _, kind := range keyKinds {
		for _, size := range []int{1, 64, 136, 200} {
			b := drawn(3, size)
			got, e := Hmac(kind, b, b)
			expect(t, "Hmac", kind, got, e, ruledHmac(kind, b, b))
			got, e = Expand(kind, b, b, 200)
			expect(t, "Expand", kind, got, e, ruledExpand(kind, b, b)[:200])
		}
	}
}

// scribble changes every byte.
func scribble(b []byte) {
	for i := range b {
		b[i]++
	}
}
