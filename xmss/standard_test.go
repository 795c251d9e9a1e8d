package xmss

import (
	"crypto/sha256"
	"crypto/sha3"
	"encoding/hex"
	"testing"

	"apostille/api"
)

// What others published: a key of each of the twelve kinds, and what of the key's signature its trees in trees tell.

// otherKey is a secret, what all know, and the key's top; a text that trees in trees sign, by a leaf of layer 0's tree of a number; and the signature's sum (of SHA-256, or with Shake of SHA3-256), as others tell them.
type otherKey struct {
	api.Slh
	secret, pub, top string
	text             string
	tree, leaf       uint64
	signature        string
}

var otherKeys = []otherKey{
	{api.Slh{N: 16, H: 63, D: 7, A: 12, K: 14, Shake: false},
		"f696484048ec21f96cf50a56d0759c44", "5ef56915bb461280cd7a1428bf89ecfb", "ace44265b801314a0d20a6006c9ff1e6",
		"81f3d1c7480a5b5a4e333173f282eb2b", 0x24d19e35786c94, 241,
		"fd48a94d0baa4676a229569839cfca8aa7e24eb6e6372283bb33cfb1ced282f6"},
	{api.Slh{N: 16, H: 63, D: 7, A: 12, K: 14, Shake: true},
		"6de62e3465a55c9c78a07d265be8540b", "f08e01a57a272b738fa8ea2f465d5940", "0b96b2f9934daa0da7c9873550013599",
		"37c749c5bf38a6e3c3cf8dca0509ed48", 0x3762972605210c, 91,
		"0ebbb07eeaa63c6f1446ffa69bb877919267d3fffadfb16b445816ff71d7d25d"},
	{api.Slh{N: 16, H: 66, D: 22, A: 6, K: 33, Shake: false},
		"1eaae6bb91b27cd748c402c4111140d5", "67b4319d2f67bae52055dcd010a25a16", "220b1ddabbed69f503b5f07cbba7f134",
		"fc0bbf96b60be88ae9c30e0e056d7404", 0x5938f8cd8c8f988d, 5,
		"99f59ade5fe696d604dd9d70061c6879fc14112d2d069739dfb377f493defecd"},
	{api.Slh{N: 16, H: 66, D: 22, A: 6, K: 33, Shake: true},
		"b585d4eb01085111a172a87688d0032e", "a27e9866875fd15dfb375e035774304b", "8c608a901a6194334b70b7c8d4e2bf82",
		"4b3de38a26acaf1d9fc4b3842756ca98", 0x7ac6f75e70dd03a, 5,
		"79cdfeda318144882d8f75aff400d6600f11e01fe46eb647cf17a5d8e6623690"},
	{api.Slh{N: 24, H: 63, D: 7, A: 14, K: 17, Shake: false},
		"a9f93c7b791356b66afcceb745a548c7f6b185e4f45ec1ff", "c9c02f34daf335681f00668a6b4209caad8f0a98afd3cb6a", "10ac13a54b552951257a36f005a60e3f1d4fc605c6c69ca8",
		"643567e4d8275cb7ebae77382937b5580ad08b322f116987", 0x2216eab5b56d57, 77,
		"168fb2d0447bc1cb6b17cbc93e4f888fbd309c82f2266e28eb1e4fe5269f8f01"},
	{api.Slh{N: 24, H: 63, D: 7, A: 14, K: 17, Shake: true},
		"85da83b47129711a63c2c2f6a5bcb701237b2b0b66814eec", "311e8eadb8a321c1bf80f61581df0da196f0f694b5c335bc", "df767cdad5dab7542ecb362183467bd0fc5b334a7d615f61",
		"2b5740e8fa6983500fe6b48f62880c8b6bbb1c9259d6a262", 0x1fdb281f92b84c, 57,
		"8b37baf06d69ad3967a0614b8b90a8eca05f5976d08dd6358d88990c8be1a410"},
	{api.Slh{N: 24, H: 66, D: 22, A: 8, K: 33, Shake: false},
		"f7ecfc9143ee45e44f5e98fd9ca1455340ec5db4fb098534", "f04ca9d2e28afca52ea1c8178445cad8c8f4efc9d99f4753", "b1170ff7df5359a4277f8ef072a833ee58c420a436928774",
		"3842651718c187218f670bb46c02f51f56273ef2f2e77302", 0x5f9f1c77c25d5c84, 4,
		"8dfdc0737eb85037c69d5211829a6c9d83ec83c0cec2b1ac5f48ef32135785c2"},
	{api.Slh{N: 24, H: 66, D: 22, A: 8, K: 33, Shake: true},
		"daa360ecbb51bcb33f5d36f92fffe77c2de7ed43d281dcb5", "5dab087c2e696072c3a207a25c42fbc1aa96fb8ec2a5af71", "caf5215b739f48ee14fbbe4b0ce50dbf8104998ca133e19c",
		"fcb26666f544ffd5bd2c8067704bf1e8e6cd17ba5b9eaf93", 0x1e49af309209ac35, 4,
		"2fa63e6ef5d09618a3a387c9ff156de3d2c6a9b0440ec525562e7bec53b9d783"},
	{api.Slh{N: 32, H: 64, D: 8, A: 14, K: 22, Shake: false},
		"ad10ad3409a90c4b24ab0da526f289209abcb1f05c86c7e4437a144c91e1c867", "b2ea4b9157c191935629e8914ab581799f366ecc13a153ba88961ebd2d25e7b8", "126760d273e037dc76cff5eddecabead489f8a725be650544c1e3145042d0c2a",
		"c3986a6bb9de55eab0ebf9b3b1813e50b25cb0fb81f9732b75e5cc99f9791f15", 0x4bf79ae677dec4, 103,
		"5312c428072ac53bf95d90248b7f5dd0a2d060b55fba71aa7caee92c35c2b488"},
	{api.Slh{N: 32, H: 64, D: 8, A: 14, K: 22, Shake: true},
		"793871afccb50f4035b9788c7292b717939aa28f5094d99ee262047b15e42deb", "e23d931a7e2679eb15c2d3727552a5a5686b13f319c17c48fcae2ca136d9fe22", "3b5f3c9b72d1318ec5c18191238914691955fbd06947ce3e7010809fd3d31832",
		"31e7192f63aab78700390beab73e1e718e29148996dd721a498796873e9c1fe0", 0x2020e86f9ad60f, 138,
		"7ee7acc017a0eb1faf53e13c27f9b4503217a6df49c69ef086a7d07f6befe94f"},
	{api.Slh{N: 32, H: 68, D: 17, A: 9, K: 35, Shake: false},
		"edb1483bd9db934a5c0970c76e96adac58c2786f5525cce741206154222b1bad", "36b35aefaeef610994159ba32295631c237f59d285e62248442d5ccca196973d", "3dfe70c01bd69e90313ba13437891e8aebbfb4d42fcccdfdf98655b272757553",
		"0f602124c6d217aed555a65b34b2250a66c45be7dea9eac63cc3ba408defa80a", 0xe2f20d9360e26004, 14,
		"96dde4748bb99e0c03361b215724292a6e0a22a1741c31a242bb6cdaf2fe050a"},
	{api.Slh{N: 32, H: 68, D: 17, A: 9, K: 35, Shake: true},
		"ec5fd75f942b76a278c3f4df4c25b0dd5db712a253cc8b9c22287befafbeb625", "95e8f648fb380f083398e4a3400c07724162fa30e25e8d3784a2e90fdf27cdbb", "4456b4892b3a49fd6de7cdae86d7432bf8f651e09b2920ad7d0618ccf70135e8",
		"3239d1685a55ae80295d4a5031aaca7957d27869da8e022938a933221a4677cf", 0x5d6e19e595496887, 5,
		"6e11daae89146455480348780c123332f278d919c30779475be2f110ea912873"},
}

func TestKeysOfOthers(t *testing.T) {
	for _, k := range otherKeys {
		t.Run("", func(t *testing.T) {
			t.Parallel()
			secret, pub := unhex(t, k.secret), unhex(t, k.pub)
			last := ruledPlace{layer: uint32(k.D - 1)}.adrs()
			expect(t, "Node, the top", Node(k.Slh, secret, pub, last, k.H/k.D, 0), unhex(t, k.top))
		})
	}
}

// Of the longer sums, high trees take seconds each: their tops are looked at alone.
func TestSignaturesOfOthers(t *testing.T) {
	for _, k := range otherKeys {
		if k.N > 16 && k.H/k.D > 4 {
			continue
		}
		t.Run("", func(t *testing.T) {
			t.Parallel()
			secret, pub, top, text := unhex(t, k.secret), unhex(t, k.pub), unhex(t, k.top), unhex(t, k.text)
			sig := Hyper(k.Slh, text, secret, pub, k.tree, k.leaf)
			expect(t, "the sum of a signature", k.summed(sig), unhex(t, k.signature))
			expectVerify(t, "Verify", k.Slh, text, sig, pub, top, k.tree, k.leaf, true)
			expectVerify(t, "another text", k.Slh, flipped(text, 77), sig, pub, top, k.tree, k.leaf, false)
			expectVerify(t, "another top", k.Slh, text, sig, pub, flipped(top, 77), k.tree, k.leaf, false)
			expectVerify(t, "another tree", k.Slh, text, sig, pub, top, k.tree^1, k.leaf, false)
			expectVerify(t, "another leaf", k.Slh, text, sig, pub, top, k.tree, k.leaf^1, false)
		})
	}
}

// summed is a signature's sum.
func (k otherKey) summed(sig []byte) []byte {
	if k.Shake {
		s := sha3.Sum256(sig)
		return s[:]
	}
	s := sha256.Sum256(sig)
	return s[:]
}

// unhex is bytes out of their digits.
func unhex(t *testing.T, s string) []byte {
	t.Helper()
	b, err := hex.DecodeString(s)
	if err != nil {
		t.Fatal(err)
	}
	return b
}
