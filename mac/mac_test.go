package mac

import (
	"bytes"
	"crypto/hkdf"
	"crypto/hmac"
	"encoding/hex"
	"math"
	"math/rand"
	"slices"
	"strings"
	"testing"

	"apostille/api"
)

// expect fails unless a call told so.
func expect(t *testing.T, what string, kind int, got []byte, e api.Errno, want []byte) {
	t.Helper()
	if e != api.OK || !bytes.Equal(got, want) {
		t.Errorf("%s of kind %d: %x, %v; want %x", what, kind, got, e, want)
	}
}

// expectError fails unless a call told so, and nothing beside.
func expectError(t *testing.T, what string, kind int, got []byte, e, want api.Errno) {
	t.Helper()
	if e != want || got != nil {
		t.Errorf("%s of kind %d: %d bytes, %v; want %v", what, kind, len(got), e, want)
	}
}

// unhex is bytes out of their digits.
func unhex(t *testing.T, s string) []byte {
	t.Helper()
	b, err := hex.DecodeString(s)
	if err != nil {
		t.Fatal(err)
	}
	return b
}

func TestTheChaptersExamples(t *testing.T) {
	if got, e := Hmac(api.HaSha256, nil, nil); e != api.OK || len(got) != 32 || !bytes.HasPrefix(got, []byte{182, 19, 103, 154}) {
		t.Errorf("Hmac of nothing: %v, %v", got, e)
	}
	if got, e := Expand(api.HaSha256, nil, nil, 0); e != api.OK || got != nil {
		t.Errorf("Expand of 0 bytes: %v, %v", got, e)
	}
	if got := Size(9); got != 0 {
		t.Errorf("Size(9): %d", got)
	}
}

// The examples of the whole that a desk tells: hash 1 -, hmac 1 - -, hash 9 -.
func TestTheDocumentsExamples(t *testing.T) {
	got, e := Digest(api.HaSha256, nil)
	expect(t, "Digest", api.HaSha256, got, e, unhex(t, "e3b0c44298fc1c149afbf4c8996fb92427ae41e4649b934ca495991b7852b855"))
	got, e = Hmac(api.HaSha256, nil, nil)
	expect(t, "Hmac", api.HaSha256, got, e, unhex(t, "b613679a0814d9ec772f95d778c35fc5ff1697c493715653c6c712144292c5ad"))
	got, e = Digest(9, nil)
	expectError(t, "Digest", 9, got, e, api.ErrAlg)
}

// P9.1

func TestSize(t *testing.T) {
	for _, kind := range kinds {
		if got := Size(kind); got != ruledSize[kind] {
			t.Errorf("Size(%d): %d, want %d", kind, got, ruledSize[kind])
		}
	}
	for _, kind := range otherKinds {
		if got := Size(kind); got != 0 {
			t.Errorf("Size(%d): %d, want 0", kind, got)
		}
	}
	for kind := -1000; kind < 1000; kind++ {
		if (Size(kind) != 0) != (1 <= kind && kind <= 7) {
			t.Errorf("Size(%d): %d", kind, Size(kind))
		}
	}
}

// What "abc" is digested to, by FIPS 180-4 and FIPS 202.
func TestDigestOfTheStandards(t *testing.T) {
	for kind, want := range map[int]string{
		api.HaSha256:   "ba7816bf8f01cfea414140de5dae2223b00361a396177a9cb410ff61f20015ad",
		api.HaSha384:   "cb00753f45a35e8bb5a03d699ac65007272c32ab0eded1631a8b605a43ff5bed8086072ba1e7cc2358baeca134c825a7",
		api.HaSha512:   "ddaf35a193617abacc417349ae20413112e6fa4e89a97ea20a9eeee64b55d39a2192992a274fc1a836ba3c23a3feebbd454d4423643ce80e2a9ac94fa54ca49f",
		api.HaSha3256:  "3a985da74fe225b2045c172d6bd390bd855f086e3e9d525b46bfe24511431532",
		api.HaSha3512:  "b751850b1a57168a5693cd924b6b096e08f621827444f70d884f5d0240d2712e10e116e9192af3c91a7ec57647e3934057340b4cf408d5a56592f8274eec53f0",
		api.HaShake128: "5881092dd818bf5cf8a3ddb793fbcba74097d5c526a6d35f97b83351940f2cc8",
		api.HaShake256: "483366601360a8771c6863080cc4114d8db44530f8f1e1ee4f94ea37e78b5739d5a15bef186a5386c75744c0527e1faa9f8726e462a12a4feb06bd8801e751e4",
	} {
		got, e := Digest(kind, []byte("abc"))
		expect(t, "Digest", kind, got, e, unhex(t, want))
	}
}

func TestDigestOfEachLength(t *testing.T) {
	b := drawn(91, 500)
	for _, kind := range kinds {
		got, e := Digest(kind, nil)
		expect(t, "Digest", kind, got, e, ruledDigest(kind))
		for size := range b {
			got, e := Digest(kind, b[:size])
			expect(t, "Digest", kind, got, e, ruledDigest(kind, b[:size]))
			if len(got) != Size(kind) {
				t.Errorf("Digest of kind %d: %d bytes", kind, len(got))
			}
		}
	}
}

func TestTheLongestTexts(t *testing.T) {
	b := drawn(92, 1<<24)
	for _, kind := range kinds {
		got, e := Digest(kind, b)
		expect(t, "Digest", kind, got, e, ruledDigest(kind, b))
	}
	got, e := Hmac(api.HaSha256, b, b)
	expect(t, "Hmac", api.HaSha256, got, e, ruledHmac(api.HaSha256, b, b))
	got, e = Extract(api.HaSha3512, b, b)
	expect(t, "Extract", api.HaSha3512, got, e, ruledHmac(api.HaSha3512, b, b))
	got, e = Expand(api.HaSha512, b, b, 65)
	one := ruledHmac(api.HaSha512, b, b, []byte{1})
	two := ruledHmac(api.HaSha512, b, one, b, []byte{2})
	expect(t, "Expand", api.HaSha512, got, e, slices.Concat(one, two[:1]))
}

func TestDigestOfNoSuchKind(t *testing.T) {
	for _, kind := range otherKinds {
		for _, b := range [][]byte{nil, {}, {1}, drawn(1, 300)} {
			got, e := Digest(kind, b)
			expectError(t, "Digest", kind, got, e, api.ErrAlg)
		}
	}
}

// P9.2

// The examples of RFC 4231.
func TestHmacOfTheStandard(t *testing.T) {
	long := strings.Repeat("aa", 131)
	for _, x := range []struct{ key, text, sum256, sum384, sum512 string }{
		{strings.Repeat("0b", 20), hex.EncodeToString([]byte("Hi There")),
			"b0344c61d8db38535ca8afceaf0bf12b881dc200c9833da726e9376c2e32cff7",
			"afd03944d84895626b0825f4ab46907f15f9dadbe4101ec682aa034c7cebc59cfaea9ea9076ede7f4af152e8b2fa9cb6",
			"87aa7cdea5ef619d4ff0b4241a1d6cb02379f4e2ce4ec2787ad0b30545e17cdedaa833b7d6b8a702038b274eaea3f4e4be9d914eeb61f1702e696c203a126854"},
		{hex.EncodeToString([]byte("Jefe")), hex.EncodeToString([]byte("what do ya want for nothing?")),
			"5bdcc146bf60754e6a042426089575c75a003f089d2739839dec58b964ec3843",
			"af45d2e376484031617f78d2b58a6b1b9c7ef464f5a01b47e42ec3736322445e8e2240ca5e69e2c78b3239ecfab21649",
			"164b7a7bfcf819e2e395fbe73b56e0a387bd64222e831fd610270cd7ea2505549758bf75c05a994a6d034f65f8f0e6fdcaeab1a34d4a6b4b636e070a38bce737"},
		{strings.Repeat("aa", 20), strings.Repeat("dd", 50),
			"773ea91e36800e46854db8ebd09181a72959098b3ef8c122d9635514ced565fe",
			"88062608d3e6ad8a0aa2ace014c8a86f0aa635d947ac9febe83ef4e55966144b2a5ab39dc13814b94e3ab6e101a34f27",
			"fa73b0089d56a284efb0f0756c890be9b1b5dbdd8ee81a3655f83e33b2279d39bf3e848279a722c806b485a47e67c807b946a337bee8942674278859e13292fb"},
		{long, hex.EncodeToString([]byte("Test Using Larger Than Block-Size Key - Hash Key First")),
			"60e431591ee0b67f0d8a26aacbf5b77f8e0bc6213728c5140546040f0ee37f54",
			"4ece084485813e9088d2c63a041bc5b44f9ef1012a2b588f3cd11f05033ac4c60c2ef6ab4030fe8296248df163f44952",
			"80b24263c7c1a3ebb71493c1dd7be8b49b46d1f41b4aeec1121b013783f8f3526b56d037e05f2598bd0fd2215d6a1e5295e64f73f63f0aec8b915a985d786598"},
	} {
		for kind, want := range map[int]string{api.HaSha256: x.sum256, api.HaSha384: x.sum384, api.HaSha512: x.sum512} {
			got, e := Hmac(kind, unhex(t, x.key), unhex(t, x.text))
			expect(t, "Hmac", kind, got, e, unhex(t, want))
		}
	}
}

// The examples of NIST for SHA-3: keys shorter than a block, of a block, and longer ones.
func TestHmacOfTheStandardForSha3(t *testing.T) {
	counted := make([]byte, 256)
	for i := range counted {
		counted[i] = byte(i)
	}
	for _, x := range []struct {
		kind, size int
		text, want string
	}{
		{api.HaSha3256, 32, "<", "4fe8e202c4f058e8dddc23d8c34e467343e23555e24fc2f025d598f558f67205"},
		{api.HaSha3256, 136, "=", "68b94e2e538a9be4103bebb5aa016d47961d4d1aa906061313b557f8af2c3faa"},
		{api.HaSha3256, 168, ">", "9bcf2c238e235c3ce88404e813bd2f3a97185ac6f238c63d6229a00b07974258"},
		{api.HaSha3512, 64, "<", "4efd629d6c71bf86162658f29943b1c308ce27cdfa6db0d9c3ce81763f9cbce5f7ebe9868031db1a8f8eb7b6b95e5c5e3f657a8996c86a2f6527e307f0213196"},
		{api.HaSha3512, 72, "=", "544e257ea2a3e5ea19a590e6a24b724ce6327757723fe2751b75bf007d80f6b360744bf1b7a88ea585f9765b47911976d3191cf83c039f5ffab0d29cc9d9b6da"},
		{api.HaSha3512, 136, ">", "5f464f5e5b7848e3885e49b2c385f0694985d0e38966242dc4a5fe3fea4b37d46b65ceced5dcf59438dd840bab22269f0ba7febdb9fcf74602a35666b2a32915"},
	} {
		got, e := Hmac(x.kind, counted[:x.size], []byte("Sample message for keylen"+x.text+"blocklen"))
		expect(t, "Hmac", x.kind, got, e, unhex(t, x.want))
	}
}

// Keys of every length, around a block and around a digest among them, held against the library and against the chapter's rule.
func TestHmacOfEachLength(t *testing.T) {
	r := rand.New(rand.NewSource(93))
	for _, kind := range keyKinds {
		for size := range 300 {
			key, b := drawn(int64(size), size), drawn(r.Int63(), r.Intn(400))
			h := hmac.New(library(kind), key)
			h.Write(b)
			want := h.Sum(nil)
			if !bytes.Equal(want, ruledHmac(kind, key, b)) {
				t.Fatalf("kind %d: the rule and the library differ", kind)
			}
			got, e := Hmac(kind, key, b)
			expect(t, "Hmac", kind, got, e, want)
			got, e = Extract(kind, key, b)
			expect(t, "Extract", kind, got, e, want)
		}
		for size := range 300 {
			b := drawn(int64(size), size)
			got, e := Hmac(kind, []byte("key"), b)
			expect(t, "Hmac", kind, got, e, ruledHmac(kind, []byte("key"), b))
		}
		got, e := Hmac(kind, nil, nil)
		expect(t, "Hmac", kind, got, e, ruledHmac(kind, nil))
		got, e = Extract(kind, []byte{}, []byte{})
		expect(t, "Extract", kind, got, e, ruledHmac(kind, nil))
	}
}

// A key that holds the filling bytes themselves.
func TestHmacOfFillingBytes(t *testing.T) {
	for _, kind := range keyKinds {
		for _, x := range []byte{0, 0x36, 0x5c, 0x6a, 0xff} {
			for _, size := range []int{1, ruledBlock[kind] - 1, ruledBlock[kind], ruledBlock[kind] + 1} {
				key := bytes.Repeat([]byte{x}, size)
				got, e := Hmac(kind, key, key)
				expect(t, "Hmac", kind, got, e, ruledHmac(kind, key, key))
			}
		}
	}
}

func TestHmacOfNoSuchKind(t *testing.T) {
	for _, kind := range notOf(keyKinds) {
		for _, size := range []int{0, 1, 200} {
			got, e := Hmac(kind, drawn(1, size), drawn(2, size))
			expectError(t, "Hmac", kind, got, e, api.ErrAlg)
			got, e = Extract(kind, drawn(1, size), drawn(2, size))
			expectError(t, "Extract", kind, got, e, api.ErrAlg)
		}
	}
}

// P9.3

// The examples of RFC 5869, the ones of SHA-256.
func TestExpandOfTheStandard(t *testing.T) {
	counted := func(from, size int) []byte {
		b := make([]byte, size)
		for i := range b {
			b[i] = byte(from + i)
		}
		return b
	}
	for _, x := range []struct {
		text, salt, info []byte
		key, want        string
	}{
		{bytes.Repeat([]byte{0x0b}, 22), counted(0, 13), counted(0xf0, 10),
			"077709362c2e32df0ddc3f0dc47bba6390b6c73bb50f9c3122ec844ad7c2b3e5",
			"3cb25f25faacd57a90434f64d0362f2a2d2d0a90cf1a5a4c5db02d56ecc4c5bf34007208d5b887185865"},
		{counted(0, 80), counted(0x60, 80), counted(0xb0, 80),
			"06a6b88c5853361a06104c9ceb35b45cef760014904671014a193f40c15fc244",
			"b11e398dc80327a1c8e7f78c596a49344f012eda2d4efad8a050cc4c19afa97c59045a99cac7827271cb41c65e590e09da3275600c2f09b8367793a9aca3db71cc30c58179ec3e87c14c01d5c1f3434f1d87"},
		{bytes.Repeat([]byte{0x0b}, 22), nil, nil,
			"19ef24a32c717b167f33a91d6f648bdf96596776afdb6377ac434c1c293ccb04",
			"8da4e775a563c18f715f802a063c5a31b8a11f5c5ee1879ec3454e5f3c738d2d9d201395faa4b61a96c8"},
	} {
		key, e := Extract(api.HaSha256, x.salt, x.text)
		expect(t, "Extract", api.HaSha256, key, e, unhex(t, x.key))
		want := unhex(t, x.want)
		got, e := Expand(api.HaSha256, key, x.info, len(want))
		expect(t, "Expand", api.HaSha256, got, e, want)
	}
}

func TestExpandGoesByTheLibrary(t *testing.T) {
	r := rand.New(rand.NewSource(94))
	for _, kind := range keyKinds {
		for range 200 {
			salt, b, info := drawn(r.Int63(), r.Intn(200)), drawn(r.Int63(), r.Intn(200)), drawn(r.Int63(), r.Intn(200))
			n := r.Intn(600)
			key, err := hkdf.Extract(library(kind), b, salt)
			if err != nil {
				t.Fatal(err)
			}
			got, e := Extract(kind, salt, b)
			expect(t, "Extract", kind, got, e, key)
			want, err := hkdf.Expand(library(kind), key, string(info), n)
			if err != nil {
				t.Fatal(err)
			}
			got, e = Expand(kind, key, info, n)
			expect(t, "Expand", kind, got, e, want)
		}
	}
}

// Keys and infos of each kind of length; all numbers of bytes around the ends of the first parts, and of the last one.
func TestExpandOfEachLength(t *testing.T) {
	for _, kind := range keyKinds {
		size, block := ruledSize[kind], ruledBlock[kind]
		for i, keySize := range []int{0, 1, size, block - 1, block, block + 1, 300} {
			key, info := drawn(int64(i), keySize), drawn(int64(-i), 37*i)
			all := ruledExpand(kind, key, info)
			for _, n := range []int{0, 1, size - 1, size, size + 1, 2*size - 1, 2 * size, 2*size + 1, 100 * size, 128*size + 1, 254 * size, 254*size + 1, 255*size - 1, 255 * size} {
				got, e := Expand(kind, key, info, n)
				expect(t, "Expand", kind, got, e, all[:n])
			}
		}
	}
}

func TestExpandOfTooManyBytes(t *testing.T) {
	for _, kind := range keyKinds {
		most := 255 * ruledSize[kind]
		for _, n := range []int{math.MinInt, math.MinInt32, -most, -2, -1, most + 1, most + 2, 256 * ruledSize[kind], 1 << 20, 1 << 31, 1 << 32, 1<<32 + 1, math.MaxInt} {
			got, e := Expand(kind, []byte("key"), nil, n)
			expectError(t, "Expand", kind, got, e, api.ErrRange)
		}
	}
}

// Rule 0.2: the kind is asked ahead of how many.
func TestExpandOfNoSuchKind(t *testing.T) {
	for _, kind := range notOf(keyKinds) {
		for _, n := range []int{math.MinInt, -1, 0, 1, 32, 255 * 64, 1 << 30, math.MaxInt} {
			got, e := Expand(kind, []byte("key"), []byte("info"), n)
			expectError(t, "Expand", kind, got, e, api.ErrAlg)
		}
	}
}

// What is widely told as an example of the mask of RFC 8017.
func TestMaskOfAnExample(t *testing.T) {
	want := unhex(t, "382576a7841021cc28fc4c0948753fb8312090cea942ea4c4e735d10dc724b155f9f6069f289d61daca0cb814502ef04eae1")
	got, e := Mask(api.HaSha256, []byte("bar"), 50)
	expect(t, "Mask", api.HaSha256, got, e, want)
}

func TestMaskOfEachLength(t *testing.T) {
	for _, kind := range maskKinds {
		for _, size := range []int{0, 1, 16, 55, 59, 60, 63, 64, 65, 107, 111, 123, 124, 127, 128, 129, 300} {
			seed := drawn(int64(size), size)
			all := ruledMask(kind, seed, 300)
			for n := range 300 {
				got, e := Mask(kind, seed, n)
				expect(t, "Mask", kind, got, e, all[:n])
			}
		}
	}
}

// The most bytes: their numbers go into the third and the second byte.
func TestMaskOfTheMostBytes(t *testing.T) {
	for _, kind := range maskKinds {
		seed := drawn(95, 40)
		want := ruledMask(kind, seed, api.MaxMask)
		for _, n := range []int{api.MaxMask, api.MaxMask - 1} {
			if got, e := Mask(kind, seed, n); e != api.OK || !bytes.Equal(got, want[:n]) {
				t.Errorf("Mask of kind %d, %d bytes: %d bytes, %v", kind, n, len(got), e)
			}
		}
	}
}

// A long seed is gone through but once: with each part again, this would take half an hour.
func TestMaskOfTheLongestSeed(t *testing.T) {
	seed := drawn(96, 1<<24)
	got, e := Mask(api.HaSha256, seed, api.MaxMask)
	if e != api.OK || len(got) != api.MaxMask {
		t.Fatalf("Mask of the longest seed: %d bytes, %v", len(got), e)
	}
	for _, i := range []int{0, 1, 255, 256, 32767} {
		want := ruledDigest(api.HaSha256, seed, []byte{0, 0, byte(i >> 8), byte(i)})
		if !bytes.Equal(got[32*i:32*i+32], want) {
			t.Errorf("Mask of the longest seed, part %d: %x, want %x", i, got[32*i:32*i+32], want)
		}
	}
}

func TestMaskOfTooManyBytes(t *testing.T) {
	for _, kind := range maskKinds {
		for _, n := range []int{math.MinInt, math.MinInt32, -api.MaxMask, -2, -1, 1<<20 + 1, 1<<20 + 2, 1 << 21, 1 << 31, 1 << 32, 1<<32 + 1, math.MaxInt} {
			got, e := Mask(kind, []byte("seed"), n)
			expectError(t, "Mask", kind, got, e, api.ErrRange)
		}
	}
}

func TestMaskOfNoSuchKind(t *testing.T) {
	for _, kind := range notOf(maskKinds) {
		for _, n := range []int{math.MinInt, -1, 0, 1, 32, 1 << 20, 1<<20 + 1, math.MaxInt} {
			got, e := Mask(kind, []byte("seed"), n)
			expectError(t, "Mask", kind, got, e, api.ErrAlg)
		}
	}
}

// Rule 0.7: no bytes that are asked for are none.
func TestNoBytes(t *testing.T) {
	for _, kind := range keyKinds {
		if got, e := Expand(kind, []byte("key"), []byte("info"), 0); e != api.OK || got != nil {
			t.Errorf("Expand of kind %d, 0 bytes: %v, %v", kind, got, e)
		}
	}
	for _, kind := range maskKinds {
		if got, e := Mask(kind, []byte("seed"), 0); e != api.OK || got != nil {
			t.Errorf("Mask of kind %d, 0 bytes: %v, %v", kind, got, e)
		}
	}
}
