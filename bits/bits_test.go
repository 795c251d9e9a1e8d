package bits

import (
	"bytes"
	"math"
	"math/big"
	"math/rand"
	"slices"
	"testing"
)

// sample is bytes that look random, the same for the same seed.
func sample(seed int64, size int) []byte {
	b := make([]byte, size)
	rand.New(rand.NewSource(seed)).Read(b)
	return b
}

// sampleNumbers is 32-bit numbers that look random, the same for the same seed.
func sampleNumbers(seed int64, count int) []uint32 {
	r := rand.New(rand.NewSource(seed))
	l := make([]uint32, count)
	for i := range l {
		l[i] = r.Uint32()
	}
	return l
}

// expectBytes fails unless the bytes are those; an empty answer must be none.
func expectBytes(t *testing.T, what string, got, want []byte) {
	t.Helper()
	if !bytes.Equal(got, want) {
		t.Errorf("%s: got %x, want %x", what, got, want)
	}
	if len(want) == 0 && got != nil {
		t.Errorf("%s: an empty answer must be none", what)
	}
}

// expectNumbers fails unless the numbers are those; an empty answer must be none.
func expectNumbers(t *testing.T, what string, got, want []uint32) {
	t.Helper()
	if !slices.Equal(got, want) {
		t.Errorf("%s: got %v, want %v", what, got, want)
	}
	if len(want) == 0 && got != nil {
		t.Errorf("%s: an empty answer must be none", what)
	}
}

var someNumbers = []uint64{0, 1, 127, 128, 255, 256, 258, 65535, 65536, 0x0123456789abcdef, 1 << 63, math.MaxUint64}

// badWidths and badCounts are what Digits, Pack and Unpack answer none to.
var badWidths = []int{math.MinInt, -24, -1, 0, 25, 26, 32, 33, 64, math.MaxInt}
var badCounts = []int{math.MinInt, math.MinInt + 1, -65536, -2, -1}

// P1.1

func TestBeOrdinary(t *testing.T) {
	expectBytes(t, "258 in 3", Be(258, 3), []byte{0, 1, 2})
	expectBytes(t, "8 bytes", Be(0x0123456789abcdef, 8), []byte{0x01, 0x23, 0x45, 0x67, 0x89, 0xab, 0xcd, 0xef})
	expectBytes(t, "only the lowest bits", Be(0x0123456789abcdef, 3), []byte{0xab, 0xcd, 0xef})
	expectBytes(t, "one byte", Be(0x1ff, 1), []byte{0xff})
	expectBytes(t, "0 in 2", Be(0, 2), []byte{0, 0})
}

func TestLeOrdinary(t *testing.T) {
	expectBytes(t, "258 in 3", Le(258, 3), []byte{2, 1, 0})
	expectBytes(t, "8 bytes", Le(0x0123456789abcdef, 8), []byte{0xef, 0xcd, 0xab, 0x89, 0x67, 0x45, 0x23, 0x01})
	expectBytes(t, "only the lowest bits", Le(0x0123456789abcdef, 3), []byte{0xef, 0xcd, 0xab})
	expectBytes(t, "one byte", Le(0x1ff, 1), []byte{0xff})
	expectBytes(t, "0 in 2", Le(0, 2), []byte{0, 0})
}

// By the library's big numbers, for each size around 8 and the greatest one.
func TestBeAndLeBySize(t *testing.T) {
	for _, n := range someNumbers {
		for _, size := range []int{1, 2, 3, 4, 5, 6, 7, 8, 9, 10, 16, 32, 65535, 65536} {
			cut := new(big.Int).SetUint64(n)
			cut.And(cut, new(big.Int).Sub(new(big.Int).Lsh(big.NewInt(1), uint(8*size)), big.NewInt(1)))
			want := cut.FillBytes(make([]byte, size))
			if !bytes.Equal(Be(n, size), want) {
				t.Errorf("Be(%d, %d)", n, size)
			}
			slices.Reverse(want)
			if !bytes.Equal(Le(n, size), want) {
				t.Errorf("Le(%d, %d)", n, size)
			}
		}
	}
}

func TestBeAndLeOfNoSize(t *testing.T) {
	for _, size := range []int{math.MinInt, -65536, -8, -1, 0, 65537, 1 << 20, 1 << 32, math.MaxInt} {
		expectBytes(t, "Be", Be(math.MaxUint64, size), nil)
		expectBytes(t, "Le", Le(math.MaxUint64, size), nil)
	}
}

func TestNumAndNumLeOrdinary(t *testing.T) {
	cases := []struct {
		b      []byte
		be, le uint64
	}{
		{nil, 0, 0},
		{[]byte{}, 0, 0},
		{[]byte{7}, 7, 7},
		{[]byte{255}, 255, 255},
		{[]byte{0, 1, 2}, 258, 0x020100},
		{[]byte{2, 1, 0}, 0x020100, 258},
		{[]byte{1, 2, 3, 4, 5, 6, 7, 8}, 0x0102030405060708, 0x0807060504030201},
		{bytes.Repeat([]byte{255}, 8), math.MaxUint64, math.MaxUint64},
		{[]byte{9, 1, 2, 3, 4, 5, 6, 7, 8}, 0x0102030405060708, 0x0706050403020109},
		{[]byte{1, 2, 3, 4, 5, 6, 7, 8, 9}, 0x0203040506070809, 0x0807060504030201},
	}
	for _, c := range cases {
		if got := Num(c.b); got != c.be {
			t.Errorf("Num(%x) = %x, want %x", c.b, got, c.be)
		}
		if got := NumLe(c.b); got != c.le {
			t.Errorf("NumLe(%x) = %x, want %x", c.b, got, c.le)
		}
	}
}

// By the library's big numbers: modulo 2^64 however many bytes there are.
func TestNumAndNumLeModulo(t *testing.T) {
	for size := range 40 {
		b := sample(int64(size), size)
		back := slices.Clone(b)
		slices.Reverse(back)
		whole := new(big.Int).SetBytes(b)
		want := new(big.Int).And(whole, new(big.Int).SetUint64(math.MaxUint64)).Uint64()
		if Num(b) != want {
			t.Errorf("Num(%x) = %x, want %x", b, Num(b), want)
		}
		if NumLe(back) != want {
			t.Errorf("NumLe(%x) = %x, want %x", back, NumLe(back), want)
		}
	}
}

// P1.2

func TestXor(t *testing.T) {
	expectBytes(t, "same size", Xor([]byte{0x0f, 0xff, 0}, []byte{0xf0, 0xff, 5}), []byte{0xff, 0, 5})
	expectBytes(t, "first is shorter", Xor([]byte{1}, []byte{2, 3}), []byte{3})
	expectBytes(t, "second is shorter", Xor([]byte{1, 9, 9}, []byte{2, 3}), []byte{3, 10})
	expectBytes(t, "first is empty", Xor(nil, []byte{1}), nil)
	expectBytes(t, "second is empty", Xor([]byte{1}, []byte{}), nil)
	expectBytes(t, "both are empty", Xor(nil, nil), nil)
}

func TestSame(t *testing.T) {
	for size := range 20 {
		a := sample(int64(size), size)
		if !Same(a, slices.Clone(a)) {
			t.Errorf("Same(%x, its copy)", a)
		}
		for i := range 8 * size {
			b := slices.Clone(a)
			b[i/8] ^= 1 << (i % 8)
			if Same(a, b) || Same(b, a) {
				t.Errorf("Same(%x, %x)", a, b)
			}
		}
		for _, b := range [][]byte{append(slices.Clone(a), 0), append([]byte{0}, a...)} {
			if Same(a, b) || Same(b, a) {
				t.Errorf("Same(%x, %x)", a, b)
			}
		}
	}
	if !Same(nil, []byte{}) || !Same(nil, nil) {
		t.Error("two empty texts are the same")
	}
	if Same([]byte{1, 2}, []byte{2, 1}) || Same([]byte{1, 1}, []byte{2, 2}) {
		t.Error("what differs twice is not the same")
	}
}

func TestJoin(t *testing.T) {
	expectBytes(t, "nothing", Join(), nil)
	expectBytes(t, "empty texts", Join(nil, []byte{}, nil), nil)
	expectBytes(t, "one", Join([]byte{1, 2}), []byte{1, 2})
	expectBytes(t, "three", Join([]byte{1, 2}, []byte{3}, []byte{4, 5, 6}), []byte{1, 2, 3, 4, 5, 6})
	expectBytes(t, "with empty ones", Join(nil, []byte{9}, []byte{}, []byte{8}, nil), []byte{9, 8})
	var many [][]byte
	var want []byte
	for i := range 1000 {
		many = append(many, sample(int64(i), i%7))
		want = append(want, many[i]...)
	}
	expectBytes(t, "a thousand", Join(many...), want)
}

// P1.3

// digitsByBit is the first groups of a text's bits, told one bit at a time.
func digitsByBit(b []byte, width, count int) []uint32 {
	out := make([]uint32, count)
	for i := range count * width {
		bit := b[i/8] >> (7 - i%8) & 1
		out[i/width] = out[i/width]<<1 | uint32(bit)
	}
	return out
}

func TestDigitsOrdinary(t *testing.T) {
	expectNumbers(t, "by 4", Digits([]byte{0xa5}, 4, 2), []uint32{10, 5})
	expectNumbers(t, "by 1", Digits([]byte{0xa5}, 1, 8), []uint32{1, 0, 1, 0, 0, 1, 0, 1})
	expectNumbers(t, "by 3", Digits([]byte{0xa5, 0xff}, 3, 3), []uint32{5, 1, 3})
	expectNumbers(t, "by 12", Digits([]byte{0x12, 0x34, 0x56}, 12, 2), []uint32{0x123, 0x456})
	expectNumbers(t, "by 24", Digits([]byte{1, 2, 3, 4, 5, 6}, 24, 2), []uint32{0x010203, 0x040506})
	expectNumbers(t, "the first alone", Digits([]byte{0xa5, 0x77}, 4, 1), []uint32{10})
}

func TestDigitsOfEachWidth(t *testing.T) {
	for width := 1; width <= 24; width++ {
		for size := range 25 {
			b := sample(int64(100*width+size), size)
			for count := range 8*size/width + 1 {
				expectNumbers(t, "digits", Digits(b, width, count), digitsByBit(b, width, count))
			}
		}
	}
}

func TestDigitsNone(t *testing.T) {
	expectNone(t, Digits)
}

// P1.4

// packByBit is numbers as bits, laid one bit at a time.
func packByBit(l []uint32, width int) []byte {
	out := make([]byte, (len(l)*width+7)/8)
	for i := range len(l) * width {
		bit := byte(l[i/width] >> (i % width) & 1)
		out[i/8] |= bit << (i % 8)
	}
	return out
}

// unpackByBit is the first numbers of a text's bits, taken one bit at a time.
func unpackByBit(b []byte, width, count int) []uint32 {
	out := make([]uint32, count)
	for i := range count * width {
		bit := uint32(b[i/8] >> (i % 8) & 1)
		out[i/width] |= bit << (i % width)
	}
	return out
}

func TestPackOrdinary(t *testing.T) {
	expectBytes(t, "by 4", Pack([]uint32{5, 10}, 4), []byte{0xa5})
	expectBytes(t, "by 1", Pack([]uint32{1, 0, 1, 0, 0, 1, 0, 1, 1}, 1), []byte{0xa5, 0x01})
	expectBytes(t, "by 10", Pack([]uint32{0x3ff, 0, 0x155}, 10), []byte{0xff, 0x03, 0x50, 0x15})
	expectBytes(t, "by 24", Pack([]uint32{0x010203, 0x040506}, 24), []byte{3, 2, 1, 6, 5, 4})
	expectBytes(t, "0 at the end", Pack([]uint32{0xffffffff}, 3), []byte{0x07})
	expectBytes(t, "only the lowest bits", Pack([]uint32{0xfffffff5, 0xaaaaaafa}, 4), []byte{0xa5})
}

func TestPackOfEachWidth(t *testing.T) {
	for width := 1; width <= 24; width++ {
		for count := range 40 {
			l := sampleNumbers(int64(100*width+count), count)
			expectBytes(t, "pack", Pack(l, width), packByBit(l, width))
		}
	}
}

func TestPackNone(t *testing.T) {
	for _, width := range badWidths {
		expectBytes(t, "width", Pack([]uint32{1, 2, 3}, width), nil)
		expectBytes(t, "width, no numbers", Pack(nil, width), nil)
	}
	expectBytes(t, "no numbers", Pack(nil, 4), nil)
	expectBytes(t, "an empty list", Pack([]uint32{}, 24), nil)
}

func TestUnpackOrdinary(t *testing.T) {
	expectNumbers(t, "by 4", Unpack([]byte{0xa5}, 4, 2), []uint32{5, 10})
	expectNumbers(t, "by 1", Unpack([]byte{0xa5}, 1, 8), []uint32{1, 0, 1, 0, 0, 1, 0, 1})
	expectNumbers(t, "by 10", Unpack([]byte{0xff, 0x03, 0x50, 0x15}, 10, 3), []uint32{0x3ff, 0, 0x155})
	expectNumbers(t, "by 24", Unpack([]byte{3, 2, 1, 6, 5, 4}, 24, 2), []uint32{0x010203, 0x040506})
	expectNumbers(t, "the first alone", Unpack([]byte{0xa5, 0x77}, 4, 1), []uint32{5})
}

func TestUnpackOfEachWidth(t *testing.T) {
	for width := 1; width <= 24; width++ {
		for size := range 25 {
			b := sample(int64(100*width+size), size)
			for count := range 8*size/width + 1 {
				expectNumbers(t, "unpack", Unpack(b, width, count), unpackByBit(b, width, count))
			}
		}
	}
}

func TestUnpackNone(t *testing.T) {
	expectNone(t, Unpack)
}

// expectNone fails unless a taker of groups answers none just where Digits and Unpack must.
func expectNone(t *testing.T, take func(b []byte, width, count int) []uint32) {
	t.Helper()
	b := sample(1, 100)
	for _, width := range badWidths {
		for _, count := range []int{math.MinInt, -1, 0, 1, 3, math.MaxInt} {
			expectNumbers(t, "bad width", take(b, width, count), nil)
		}
	}
	for width := 1; width <= 24; width++ {
		for _, count := range badCounts {
			expectNumbers(t, "count below 0", take(b, width, count), nil)
			expectNumbers(t, "count below 0 of nothing", take(nil, width, count), nil)
		}
		most := 800 / width
		if got := len(take(b, width, most)); got != most {
			t.Errorf("width %d: %d of %d numbers", width, got, most)
		}
		for _, count := range []int{most + 1, 801, math.MaxInt32, math.MaxInt/width + 1, math.MaxInt - 1, math.MaxInt} {
			expectNumbers(t, "too few bits", take(b, width, count), nil)
		}
		expectNumbers(t, "count 0", take(b, width, 0), nil)
		expectNumbers(t, "count 0 of nothing", take(nil, width, 0), nil)
		expectNumbers(t, "1 of nothing", take(nil, width, 1), nil)
	}
	for shift := range 63 { // products that come out small when they wrap round
		expectNumbers(t, "a wrapped product", take(b, 16, 1<<shift|1<<62), nil)
	}
}

// P1.5

func TestNumThereAndBack(t *testing.T) {
	for _, n := range someNumbers {
		for size := 1; size <= 8; size++ {
			cut := n
			if size < 8 {
				cut = n & (1<<(8*size) - 1)
			}
			if Num(Be(n, size)) != cut || NumLe(Le(n, size)) != cut {
				t.Errorf("%x by %d bytes does not come back", n, size)
			}
		}
		if Num(Be(n, 9)) != n || NumLe(Le(n, 9)) != n || Num(Be(n, 65536)) != n || NumLe(Le(n, 65536)) != n {
			t.Errorf("%x with zeroes does not come back", n)
		}
	}
	for size := 1; size <= 8; size++ {
		b := sample(int64(size), size)
		expectBytes(t, "bytes, highest first", Be(Num(b), size), b)
		expectBytes(t, "bytes, lowest first", Le(NumLe(b), size), b)
	}
}

func TestPackThereAndBack(t *testing.T) {
	for width := 1; width <= 24; width++ {
		for count := range 40 {
			l := sampleNumbers(int64(1000*width+count), count)
			want := make([]uint32, count)
			for i := range l {
				want[i] = l[i] & (1<<width - 1)
			}
			expectNumbers(t, "back", Unpack(Pack(l, width), width, count), want)
		}
		b := sample(int64(width), 3*width)
		expectBytes(t, "bytes and back", Pack(Unpack(b, width, 24), width), b)
	}
}

// P1.6

func TestXorTwice(t *testing.T) {
	for size := range 70 {
		a, b := sample(int64(size), size), sample(int64(size+1000), size)
		expectBytes(t, "twice", Xor(Xor(a, b), b), a)
		expectBytes(t, "with itself", Xor(a, a), make([]byte, size))
	}
}

func TestDigitsOfWidth8(t *testing.T) {
	b := make([]byte, 256)
	want := make([]uint32, 256)
	for i := range b {
		b[i] = byte(i)
		want[i] = uint32(i)
	}
	expectNumbers(t, "bytes", Digits(b, 8, 256), want)
	expectNumbers(t, "bytes, lowest first", Unpack(b, 8, 256), want)
	expectBytes(t, "bytes back", Pack(want, 8), b)
}

// Rule 0.5: what goes in is not changed, and what comes out is new memory.
func TestNothingShared(t *testing.T) {
	a, b := sample(1, 32), sample(2, 32)
	numbers := sampleNumbers(3, 32)
	a1, b1, numbers1 := slices.Clone(a), slices.Clone(b), slices.Clone(numbers)
	outs := [][]byte{Xor(a, b), Join(a), Join(a[:9], b), Join(nil, a), Pack(numbers, 24)}
	lists := [][]uint32{Digits(a, 7, 9), Unpack(a, 7, 9)}
	Num(a)
	NumLe(a)
	Same(a, b)
	for _, out := range outs {
		scribble(out[:cap(out)])
	}
	for _, l := range lists {
		scribble(l[:cap(l)])
	}
	if !bytes.Equal(a, a1) || !bytes.Equal(b, b1) || !slices.Equal(numbers, numbers1) {
		t.Error("an argument was changed")
	}
}

// scribble changes every item.
func scribble[T byte | uint32](l []T) {
	for i := range l {
		l[i]++
	}
}
