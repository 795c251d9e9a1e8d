package lms

import (
	"bytes"
	"encoding/hex"
	"slices"
	"testing"

	"apostille/api"
)

// What others published: the test cases of RFC 8554, and what the program that its authors wrote tells of kinds that these leave out.

// otherTree is a tree by a seed, its key, and the sum of its signature of a text by a leaf, as others tell them.
type otherTree struct {
	api.Tree
	seed, public string
	q            uint32
	text         string
	signature    string
}

// The text of the first is the key of the second tree, which stands below it.
var otherTrees = []otherTree{
	{api.Tree{H: 10, W: 4}, "558b8966c48ae9cb898b423c83443aae014a72f1b1ab5cc85cf1d892903b5439",
		"0000000600000003d08fabd4a2091ff0a8cb4ed834e7453432a58885cd9ba0431235466bff9651c6c92124404d45fa53cf161c28f1ad5a8e",
		3, "0000000500000004215f83b7ccb9acbcd08db97b0d04dc2ba1cd035833e0e90059603f26e07ad2aad152338e7a5e5984bcd5f7bb4eba40b7",
		"7e3c3836d68274c43edaaaac98a51d2109ae7fd05704555636006a38f0b602d4"},
	{api.Tree{H: 5, W: 8}, "a1c4696e2608035a886100d05cd99945eb3370731884a8235e2fb3d4d71f2547",
		"0000000500000004215f83b7ccb9acbcd08db97b0d04dc2ba1cd035833e0e90059603f26e07ad2aad152338e7a5e5984bcd5f7bb4eba40b7",
		4, "54686520656e756d65726174696f6e20696e2074686520436f6e737469747574696f6e2c206f66206365727461696e207269676874732c207368616c6c206e6f7420626520636f6e73747275656420746f2064656e79206f7220646973706172616765206f74686572732072657461696e6564206279207468652070656f706c652e0a",
		"987a83f7670a93837c484888fde579ca3653db8b66c9339b3c03b1e9b949d771"},
	{api.Tree{H: 5, W: 1}, "67c6697351ff4aec29cdbaabf2fbe3467cc254f81be8e78d765a2e63339fc99a",
		"000000050000000166320db73158a35a255d051758e95ed4a5c8d702b44ff9b23bcae0963e9f757cb974bfaf29bbf07fa68191b53a85c264",
		5, "deadbeef",
		"355e718eeea6fa765c395273c86b628752887e8d8737edc8bafa82ca231b2628"},
	{api.Tree{H: 10, W: 2}, "67c6697351ff4aec29cdbaabf2fbe3467cc254f81be8e78d765a2e63339fc99a",
		"000000060000000266320db73158a35a255d051758e95ed4547c0449d8b3531f210b7e34fea7301771b6160e7cef454f4b83374d68cd1a76",
		5, "caca010bb1acce55e5b100d1e55f055115",
		"d805cea3a3b3e4c983105da576900d189c0c2c849875f03811b0034c784f9bd9"},
}

func TestTreesOfOthers(t *testing.T) {
	t.Parallel()
	for _, tree := range otherTrees {
		public, seed, text := unhex(t, tree.public), unhex(t, tree.seed), unhex(t, tree.text)
		id := public[8:24]
		got, e := Public(tree.Tree, id, seed)
		expect(t, "Public", got, e, public)
		sig, e := Sign(tree.Tree, id, seed, tree.q, text)
		expect(t, "the sum of a signature", ruledSum(sig), e, unhex(t, tree.signature))
		if e := Verify(public, text, sig); e != api.OK {
			t.Errorf("Verify: %v", e)
		}
	}
}

// Both trees of RFC 8554's test case 1, of which no seed is told: the first one's text is the second one's key.
const (
	upperPublic = "000000050000000461a5d57d37f5e46bfb7520806b07a1b850650e3b31fe4a773ea29a07f09cf2ea30e579f0df58ef8e298da0434cb2b878"
	lowerPublic = "0000000500000004d2f14ff6346af964569f7d6cb880a1b66c5004917da6eafe4d9ef6c6407b3db0e5485b122d9ebe15cda93cfec582d7ab"
	lowerText   = "54686520706f77657273206e6f742064656c65676174656420746f2074686520556e69746564205374617465732062792074686520436f6e737469747574696f6e2c206e6f722070726f6869626974656420627920697420746f20746865205374617465732c2061726520726573657276656420746f207468652053746174657320726573706563746976656c792c206f7220746f207468652070656f706c652e0a"

	upperSignature = "" +
		"0000000500000004d32b56671d7eb98833c49b433c272586bc4a1c8a8970528ffa04b966f9426eb9965a25bfd37f196b9073f3d4a232feb69128ec45146f8629" +
		"2f9dff9610a7bf95a64c7f60f6261a62043f86c70324b7707f5b4a8a6e19c114c7be866d488778a0e05fd5c6509a6e61d559cf1a77a970de927d60c70d3de31a" +
		"7fa0100994e162a2582e8ff1b10cd99d4e8e413ef469559f7d7ed12c838342f9b9c96b83a4943d1681d84b15357ff48ca579f19f5e71f18466f2bbef4bf660c2" +
		"518eb20de2f66e3b14784269d7d876f5d35d3fbfc7039a462c716bb9f6891a7f41ad133e9e1f6d9560b960e7777c52f060492f2d7c660e1471e07e7265556203" +
		"5abc9a701b473ecbc3943c6b9c4f2405a3cb8bf8a691ca51d3f6ad2f428bab6f3a30f55dd9625563f0a75ee390e385e3ae0b906961ecf41ae073a0590c2eb620" +
		"4f44831c26dd768c35b167b28ce8dc988a3748255230cef99ebf14e730632f27414489808afab1d1e783ed04516de012498682212b07810579b250365941bcc9" +
		"8142da13609e9768aaf65de7620dabec29eb82a17fde35af15ad238c73f81bdb8dec2fc0e7f932701099762b37f43c4a3c20010a3d72e2f606be108d310e639f" +
		"09ce7286800d9ef8a1a40281cc5a7ea98d2adc7c7400c2fe5a101552df4e3cccfd0cbf2ddf5dc6779cbbc68fee0c3efe4ec22b83a2caa3e48e0809a0a750b73c" +
		"cdcf3c79e6580c154f8a58f7f24335eec5c5eb5e0cf01dcf4439424095fceb077f66ded5bec73b27c5b9f64a2a9af2f07c05e99e5cf80f00252e39db32f6c196" +
		"74f190c9fbc506d826857713afd2ca6bb85cd8c107347552f30575a5417816ab4db3f603f2df56fbc413e7d0acd8bdd81352b2471fc1bc4f1ef296fea1220403" +
		"466b1afe78b94f7ecf7cc62fb92be14f18c2192384ebceaf8801afdf947f698ce9c6ceb696ed70e9e87b0144417e8d7baf25eb5f70f09f016fc925b4db048ab8" +
		"d8cb2a661ce3b57ada67571f5dd546fc22cb1f97e0ebd1a65926b1234fd04f171cf469c76b884cf3115cce6f792cc84e36da58960c5f1d760f32c12faef477e9" +
		"4c92eb75625b6a371efc72d60ca5e908b3a7dd69fef0249150e3eebdfed39cbdc3ce9704882a2072c75e13527b7a581a556168783dc1e97545e31865ddc46b3c" +
		"957835da252bb7328d3ee2062445dfb85ef8c35f8e1f3371af34023cef626e0af1e0bc017351aae2ab8f5c612ead0b729a1d059d02bfe18efa971b7300e88236" +
		"0a93b025ff97e9e0eec0f3f3f13039a17f88b0cf808f488431606cb13f9241f40f44e537d302c64a4f1f4ab949b9feefadcb71ab50ef27d6d6ca8510f150c85f" +
		"b525bf25703df7209b6066f09c37280d59128d2f0f637c7d7d7fad4ed1c1ea04e628d221e3d8db77b7c878c9411cafc5071a34a00f4cf07738912753dfce48f0" +
		"7576f0d4f94f42c6d76f7ce973e9367095ba7e9a3649b7f461d9f9ac1332a4d1044c96aefee67676401b64457c54d65fef6500c59cdfb69af7b6dddfcb0f0862" +
		"78dd8ad0686078dfb0f3f79cd893d314168648499898fbc0ced5f95b74e8ff14d735cdea968bee7400000005d8b8112f9200a5e50c4a262165bd342cd800b849" +
		"6810bc716277435ac376728d129ac6eda839a6f357b5a04387c5ce97382a78f2a4372917eefcbf93f63bb59112f5dbe400bd49e4501e859f885bf0736e90a509" +
		"b30a26bfac8c17b5991c157eb5971115aa39efd8d564a6b90282c3168af2d30ef89d51bf14654510a12b8a144cca1848cf7da59cc2b3d9d0692dd2a20ba38634" +
		"80e25b1b85ee860c62bf5136"
	lowerSignature = "" +
		"0000000a000000040703c491e7558b35011ece3592eaa5da4d918786771233e8353bc4f62323185c95cae05b899e35dffd717054706209988ebfdf6e37960bb5" +
		"c38d7657e8bffeef9bc042da4b4525650485c66d0ce19b317587c6ba4bffcc428e25d08931e72dfb6a120c5612344258b85efdb7db1db9e1865a73caf96557eb" +
		"39ed3e3f426933ac9eeddb03a1d2374af7bf77185577456237f9de2d60113c23f846df26fa942008a698994c0827d90e86d43e0df7f4bfcdb09b86a373b98288" +
		"b7094ad81a0185ac100e4f2c5fc38c003c1ab6fea479eb2f5ebe48f584d7159b8ada03586e65ad9c969f6aecbfe44cf356888a7b15a3ff074f771760b26f9c04" +
		"884ee1faa329fbf4e61af23aee7fa5d4d9a5dfcf43c4c26ce8aea2ce8a2990d7ba7b57108b47dabfbeadb2b25b3cacc1ac0cef346cbb90fb044beee4fac2603a" +
		"442bdf7e507243b7319c9944b1586e899d431c7f91bcccc8690dbf59b28386b2315f3d36ef2eaa3cf30b2b51f48b71b003dfb08249484201043f65f5a3ef6bbd" +
		"61ddfee81aca9ce60081262a00000480dcbc9a3da6fbef5c1c0a55e48a0e729f9184fcb1407c31529db268f6fe50032a363c9801306837fafabdf957fd97eafc" +
		"80dbd165e435d0e2dfd836a28b354023924b6fb7e48bc0b3ed95eea64c2d402f4d734c8dc26f3ac591825daef01eae3c38e3328d00a77dc657034f287ccb0f0e" +
		"1c9a7cbdc828f627205e4737b84b58376551d44c12c3c215c812a0970789c83de51d6ad787271963327f0a5fbb6b5907dec02c9a90934af5a1c63b72c8265360" +
		"5d1dcce51596b3c2b45696689f2eb382007497557692caac4d57b5de9f5569bc2ad0137fd47fb47e664fcb6db4971f5b3e07aceda9ac130e9f38182de994cff1" +
		"92ec0e82fd6d4cb7f3fe00812589b7a7ce515440456433016b84a59bec6619a1c6c0b37dd1450ed4f2d8b584410ceda8025f5d2d8dd0d2176fc1cf2cc06fa8c8" +
		"2bed4d944e71339ece780fd025bd41ec34ebff9d4270a3224e019fcb444474d482fd2dbe75efb20389cc10cd600abb54c47ede93e08c114edb04117d714dc1d5" +
		"25e11bed8756192f929d15462b939ff3f52f2252da2ed64d8fae88818b1efa2c7b08c8794fb1b214aa233db3162833141ea4383f1a6f120be1db82ce3630b342" +
		"9114463157a64e91234d475e2f79cbf05e4db6a9407d72c6bff7d1198b5c4d6aad2831db61274993715a0182c7dc8089e32c8531deed4f7431c07c02195eba2e" +
		"f91efb5613c37af7ae0c066babc69369700e1dd26eddc0d216c781d56e4ce47e3303fa73007ff7b949ef23be2aa4dbf25206fe45c20dd888395b2526391a7249" +
		"96a44156beac808212858792bf8e74cba49dee5e8812e019da87454bff9e847ed83db07af313743082f880a278f682c2bd0ad6887cb59f652e155987d61bbf6a" +
		"88d36ee93b6072e6656d9ccbaae3d655852e38deb3a2dcf8058dc9fb6f2ab3d3b3539eb77b248a661091d05eb6e2f297774fe6053598457cc61908318de4b826" +
		"f0fc86d4bb117d33e865aa805009cc2918d9c2f840c4da43a703ad9f5b5806163d7161696b5a0adc00000005d5c0d1bebb06048ed6fe2ef2c6cef305b3ed6339" +
		"41ebc8b3bec9738754cddd60e1920ada52f43d055b5031cee6192520d6a5115514851ce7fd448d4a39fae2ab2335b525f484e9b40d6a4a969394843bdcf6d14c" +
		"48e8015e08ab92662c05c6e9f90b65a7a6201689999f32bfd368e5e3ec9cb70ac7b8399003f175c40885081a09ab3034911fe125631051df0408b3946b0bde79" +
		"0911e8978ba07dd56c73e7ee"
)

func TestSignaturesOfOthers(t *testing.T) {
	t.Parallel()
	kind := ruledKindOf(5, 8)
	for _, l := range [][3]string{{upperPublic, lowerPublic, upperSignature}, {lowerPublic, lowerText, lowerSignature}} {
		public, text, sig := unhex(t, l[0]), unhex(t, l[1]), unhex(t, l[2])
		if e := Verify(public, text, sig); e != api.OK {
			t.Errorf("Verify: %v", e)
		}
		expectCut(t, slices.Concat(sig, []byte{1, 2, 3}), sig, kind.Tree, []byte{1, 2, 3})
		for i := range 8 * len(sig) {
			if i >= 64 && i%59 != 0 || 8*kind.codeAt() <= i && i < 8*kind.codeAt()+32 {
				continue // all bits would take long; the typecodes have their own tests
			}
			if e := Verify(public, text, flipped(sig, i)); e == api.OK {
				t.Errorf("bit %d is another one, and it is right", i)
			}
		}
		for i := range text {
			if e := Verify(public, flipped(text, 8*i+i%8), sig); e != api.ErrSig {
				t.Errorf("a bit of byte %d of the text is another one: %v", i, e)
			}
		}
	}
	if e := Verify(unhex(t, upperPublic), unhex(t, lowerText), unhex(t, lowerSignature)); e != api.ErrSig {
		t.Errorf("by the key of another tree: %v", e)
	}
}

// unhex is bytes out of their digits.
func unhex(t *testing.T, s string) []byte {
	t.Helper()
	b, err := hex.DecodeString(s)
	if err != nil {
		t.Fatal(err)
	}
	return b
}

// expect fails unless a call told these bytes.
func expect(t *testing.T, what string, got []byte, e api.Errno, want []byte) {
	t.Helper()
	if e != api.OK || !bytes.Equal(got, want) {
		t.Errorf("%s: %x, %v; want %x", what, short(got), e, short(want))
	}
}

// short is the first bytes of a text, as many as are worth a line.
func short(b []byte) []byte {
	return b[:min(len(b), 64)]
}
