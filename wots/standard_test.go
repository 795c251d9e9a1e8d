package wots

import (
	"bytes"
	"crypto/sha256"
	"crypto/sha3"
	"encoding/hex"
	"testing"

	"apostille/api"
)

// What others published: what the program that the scheme's authors wrote tells of a place of each of the twelve kinds.

// otherLeaf is a place, a secret and what all know, the key, a text, and the sum of its signature (of SHA-256, or with Shake of SHA3-256), as others tell them.
type otherLeaf struct {
	api.Slh
	place, secret, pub string
	public, text       string
	signature          string
}

var otherLeaves = []otherLeaf{
	{api.Slh{N: 16, H: 63, D: 7, A: 12, K: 14, Shake: true},
		"000000c400000000293164469ced8664000000000000200b0000000000000000", "94223cf8a82995804957876e9fa71163", "506b4e5b8c8fa4db1b95d3e8c5c5fb5a",
		"dab72836ea57f83dc91cc5b039c109c9", "e737529060e710a93e9718dd3e29418e",
		"a6192ecbb3271284dfe70ef16cf2f1ddeac41f545bec4bdb4bf64a2a8d1c5092"},
	{api.Slh{N: 16, H: 66, D: 22, A: 6, K: 33, Shake: true},
		"000000d2000000007e8dab7afafb1c6d00000000000000c30000000000000000", "97bf4ff23b177d21cbcade2c824597e2", "44253802805bfc2626ba3230b6a0f5c1",
		"86cb579df7358844ae4d4b536db16e7c", "3a3269c986b70cef3387e85a99b52cff",
		"a42c7bf83874f823ef93d44b54c451024ddd45d516cd8aa43f2489a41881e042"},
	{api.Slh{N: 24, H: 63, D: 7, A: 14, K: 17, Shake: true},
		"000000a200000000779fb2fffc257bc5000000000000ed620000000000000000", "7a20f9c2fbe20af3343e35a0b7e8ea818cceb76c3aa2027e", "2f068a663a7b01aeff4e57a49f1d8755703d106fd8a3f96c",
		"8f7ae03e72159b28d4409caffe1f23773ccc28e964cd7449", "50eb899f74fb006f3e0e49e38824d9c19c6f7479d5459e84",
		"6234617263782a04478cf720085e0c563c5e39804e750255862a5b0879a70a49"},
	{api.Slh{N: 24, H: 66, D: 22, A: 8, K: 33, Shake: true},
		"0000000100000000682007cb96b0b7c700000000000000380000000000000000", "f7606c3148d364da19c4bbf947d1f83d9199c1bbb0229d1b", "ea4a33078da87e648b48c91a0da17b5ed28b0f6492f26017",
		"4cfa83260328c568688cfb0ef102249e1972773ef9d831a4", "f27a256bd531f29faa0fd0ed8cb728e091981d011c2a6711",
		"dd7bd8f2f3759f50649d9ab9d1fb112271043b6da008c3e4987012b5888788d8"},
	{api.Slh{N: 32, H: 64, D: 8, A: 14, K: 22, Shake: true},
		"0000008e0000000045a2e767a68f8fd400000000000000670000000000000000", "858acee3d7917945d6866eeff90664b3f1eb26e51e36e68171b531beb88a1eea", "3e58321d957ab27878ed01ed08e49a143472577a2d3e21cbbda6263289d7b3cc",
		"0a98a824c26b8a18bc9e07092b8001a5f2eed6408959109db59eb3ee400b8b3d", "b566169bde55ec56cc7b0dfb045c43dcfdfb0329deb8ff3ecde181a6e0118436",
		"2463c372a522b0be072f3178827c250f6b5fd5075fef7bf6543579fde0a512e2"},
	{api.Slh{N: 32, H: 68, D: 17, A: 9, K: 35, Shake: true},
		"0000009000000000275bbed8103d79ea00000000000000150000000000000000", "4d7b8ef84c57696364e60e8b38d9b66a1d2ab1e156d52c2e196db2717291fe0e", "5b6037902c1e95801efac48e7d3ff4f64ad4e3e5dccc74132ba3ac09951e4c1a",
		"a2b6f6d2ac70f2520b31492f355fc266377ca4166d9b68af7ce380d3f0a4b529", "81f816898482cec0a68fcedcf5ee907cd61609ab46ada2a9c3879f8548a852b2",
		"5e8f89f031636a52d31f6079d754532acb74c02012ba72a681465ab8239d5e1e"},
	{api.Slh{N: 16, H: 63, D: 7, A: 12, K: 14, Shake: false},
		"000000c400000000293164469ced8664000000000000200b0000000000000000", "94223cf8a82995804957876e9fa71163", "506b4e5b8c8fa4db1b95d3e8c5c5fb5a",
		"c537b61dac5866d6bec771e09af3c012", "e737529060e710a93e9718dd3e29418e",
		"a82a7fd06f24605851125ede65e11e1d78fa8afa0de921bd3ff2682e00b6c5ef"},
	{api.Slh{N: 16, H: 66, D: 22, A: 6, K: 33, Shake: false},
		"0000004a00000000d616820355f7155d00000000000000f50000000000000000", "2452c78267bed7e7a94501114d022f97", "8277dd77398910e378015166a38d57c7",
		"84d63d1bfe8a18fc9ac31677a9b295ef", "df1e4946dc212d86662e97b430c64bb2",
		"36a973f8a4d613c81340cb9d4b940876624a0d676c8d0e82843a2b9d24758d66"},
	{api.Slh{N: 24, H: 63, D: 7, A: 14, K: 17, Shake: false},
		"0000006100000000cea36840d6822c0b00000000000089fa0000000000000000", "e38edceeba5ec5d672550d8379e63cda3d87a338111d89d3", "f0c694be417fcc240da812c806d79e782dabfba6913780cf",
		"7c93ae41d25b58cfdaba4834a03d0d0b1af15d027e9d6a2a", "bf2307d04090a3305737ee98b7babcc462ce8c68a62ae0d3",
		"43a35705e790175c32ed91a279e3013e70dd58b27ed447e76af243843421f8af"},
	{api.Slh{N: 24, H: 66, D: 22, A: 8, K: 33, Shake: false},
		"000000c20000000006e8d74b38b896ae00000000000000790000000000000000", "3595b0e42c681c6fc2b385cf1cb56ddedbec2e550f1002d3", "7f6c71dfca1f8900b43ae4e0a2005064b3d533cf8aa0ad66",
		"85e2fcf0064f29c07d2d7e8ce78bf9c96137fe896ef10d8b", "8cdcbb9becbd6e6c29e04bf3ffd4f3b30ed794b1d7e4158b",
		"33f6dd355718155674bfd7d5d650f507f64b328a5054cd15fcb724284f20c477"},
	{api.Slh{N: 32, H: 64, D: 8, A: 14, K: 22, Shake: false},
		"000000f1000000007009170f1c81b98a00000000000000c80000000000000000", "9a13cf24cd5040b7e067a87162989a53e8483eb0a8eb3282c8098e188c987726", "ac464a79978a3077f1d8e8537083a658cbe40873d03af5984483b0d01b27f6c7",
		"5f12ff33d59001b16b92ff4ddf9e1fe7b3cb7e56fe1244e249f9439716ecbb2d", "6d404004ca707cbb48640eb8e7b410b299192569531a01979db167b9d85d8045",
		"5b9256a6544cc916b02818bcd2a888d590859f83c8edb59c1ed3feabc35f9142"},
	{api.Slh{N: 32, H: 68, D: 17, A: 9, K: 35, Shake: false},
		"000000b000000000dc0e924937af2ded00000000000000a20000000000000000", "960c7a843929bb7877ca64043d26f9ed364fa4d840005711b3119b081599a6ac", "a52030df4aeb57c1b5bbc5f2e1bee0170d84f04e84475f3758fa3f6d93e51938",
		"3a7e29069123a5ee6f6f404eb54b9c91605142a47c57c487bedae0944bac2695", "0549174f356e10ea29d6dd0a94bd22a24112f0c5594ffcb1493b1edc20381425",
		"6cc952b42aedc2eb1d424be69626da572f85dc5ba760a859664a7ee093ed55e9"},
}

func TestLeavesOfOthers(t *testing.T) {
	for _, l := range otherLeaves {
		if !Fit(l.Slh) {
			t.Errorf("%v is not fit", l.Slh)
		}
		a, secret, pub, text := api.Adrs(unhex(t, l.place)), unhex(t, l.secret), unhex(t, l.pub), unhex(t, l.text)
		expect(t, "Public", Public(l.Slh, secret, pub, a), unhex(t, l.public))
		sig := Sign(l.Slh, text, secret, pub, a)
		expect(t, "the sum of a signature", l.summed(sig), unhex(t, l.signature))
		expect(t, "Candidate", Candidate(l.Slh, sig, text, pub, a), unhex(t, l.public))
		for i := range 8 * len(text) {
			if got := Candidate(l.Slh, sig, flipped(text, i), pub, a); bytes.Equal(got, unhex(t, l.public)) {
				t.Errorf("%v: bit %d of the text is another one, and it is right", l.Slh, i)
			}
		}
	}
}

// summed is a signature's sum.
func (l otherLeaf) summed(sig []byte) []byte {
	if l.Shake {
		s := sha3.Sum256(sig)
		return s[:]
	}
	s := sha256.Sum256(sig)
	return s[:]
}

// unhex is bytes out of their digits.
func unhex(t *testing.T, s string) []byte {
	t.Helper()
	b, err := hex.DecodeString(s)
	if err != nil {
		t.Fatal(err)
	}
	return b
}
