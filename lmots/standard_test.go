package lmots

import (
	"slices"
	"testing"

	"apostille/api"
)

// What others published: the test cases of RFC 8554, and what the program that its authors wrote tells of the kinds that these leave out. The tree above the leaves is laid out here by the library's sums.

// otherTree is a tree of leaves by a seed, the sum on its top, and the sum of its signature of a text by a leaf, as others tell them.
type otherTree struct {
	w, height int
	code      uint32 // the tree's typecode
	id, seed  string
	above     string
	q         uint32
	text      string
	signature string
}

// The text of the first is the key of the second tree, which stands below it.
var otherTrees = []otherTree{
	{4, 10, 6, "d08fabd4a2091ff0a8cb4ed834e74534", "558b8966c48ae9cb898b423c83443aae014a72f1b1ab5cc85cf1d892903b5439",
		"32a58885cd9ba0431235466bff9651c6c92124404d45fa53cf161c28f1ad5a8e",
		3, "0000000500000004215f83b7ccb9acbcd08db97b0d04dc2ba1cd035833e0e90059603f26e07ad2aad152338e7a5e5984bcd5f7bb4eba40b7",
		"7e3c3836d68274c43edaaaac98a51d2109ae7fd05704555636006a38f0b602d4"},
	{8, 5, 5, "215f83b7ccb9acbcd08db97b0d04dc2b", "a1c4696e2608035a886100d05cd99945eb3370731884a8235e2fb3d4d71f2547",
		"a1cd035833e0e90059603f26e07ad2aad152338e7a5e5984bcd5f7bb4eba40b7",
		4, "54686520656e756d65726174696f6e20696e2074686520436f6e737469747574696f6e2c206f66206365727461696e207269676874732c207368616c6c206e6f7420626520636f6e73747275656420746f2064656e79206f7220646973706172616765206f74686572732072657461696e6564206279207468652070656f706c652e0a",
		"987a83f7670a93837c484888fde579ca3653db8b66c9339b3c03b1e9b949d771"},
	{1, 5, 5, "66320db73158a35a255d051758e95ed4", "67c6697351ff4aec29cdbaabf2fbe3467cc254f81be8e78d765a2e63339fc99a",
		"a5c8d702b44ff9b23bcae0963e9f757cb974bfaf29bbf07fa68191b53a85c264",
		5, "deadbeef",
		"355e718eeea6fa765c395273c86b628752887e8d8737edc8bafa82ca231b2628"},
	{2, 10, 6, "66320db73158a35a255d051758e95ed4", "67c6697351ff4aec29cdbaabf2fbe3467cc254f81be8e78d765a2e63339fc99a",
		"547c0449d8b3531f210b7e34fea7301771b6160e7cef454f4b83374d68cd1a76",
		5, "caca010bb1acce55e5b100d1e55f055115",
		"d805cea3a3b3e4c983105da576900d189c0c2c849875f03811b0034c784f9bd9"},
}

// The sum on top of a tree hangs on the keys of all of its leaves.
func TestLeavesOfOthersTrees(t *testing.T) {
	for _, tree := range otherTrees {
		id, seed := unhex(t, tree.id), unhex(t, tree.seed)
		leaves := 1 << tree.height
		sums := make([][]byte, 2*leaves)
		for q := range leaves {
			key, e := Public(tree.w, id, uint32(q), seed)
			if e != api.OK {
				t.Fatalf("Public: %v", e)
			}
			sums[leaves+q] = leafSum(id, leaves+q, key)
		}
		for n := leaves - 1; n > 0; n-- {
			sums[n] = knotSum(id, n, sums[2*n], sums[2*n+1])
		}
		expect(t, "the sum on top", sums[1], api.OK, unhex(t, tree.above))

		text := unhex(t, tree.text)
		sig, e := Sign(tree.w, id, tree.q, seed, text)
		whole := slices.Concat(four(tree.q), sig, four(tree.code))
		for n := leaves + int(tree.q); n > 1; n /= 2 {
			whole = append(whole, sums[n^1]...)
		}
		expect(t, "the sum of a signature", ruledSum(whole), e, unhex(t, tree.signature))
	}
}

// leafSum is the sum of a tree's knot that is a leaf.
func leafSum(id []byte, n int, key []byte) []byte {
	return ruledSum(id, four(uint32(n)), []byte{0x82, 0x82}, key)
}

// knotSum is the sum of a tree's knot above two others.
func knotSum(id []byte, n int, left, right []byte) []byte {
	return ruledSum(id, four(uint32(n)), []byte{0x83, 0x83}, left, right)
}

// The signature of RFC 8554's test case 1 by the leaf 5 of its first tree, whose seed is not told, and the sums beside the way up from that leaf.
const (
	standardId        = "61a5d57d37f5e46bfb7520806b07a1b8"
	standardAbove     = "50650e3b31fe4a773ea29a07f09cf2ea30e579f0df58ef8e298da0434cb2b878"
	standardText      = "0000000500000004d2f14ff6346af964569f7d6cb880a1b66c5004917da6eafe4d9ef6c6407b3db0e5485b122d9ebe15cda93cfec582d7ab"
	standardSignature = "" +
		"00000004d32b56671d7eb98833c49b433c272586bc4a1c8a8970528ffa04b966f9426eb9965a25bfd37f196b9073f3d4a232feb69128ec45146f86292f9dff96" +
		"10a7bf95a64c7f60f6261a62043f86c70324b7707f5b4a8a6e19c114c7be866d488778a0e05fd5c6509a6e61d559cf1a77a970de927d60c70d3de31a7fa01009" +
		"94e162a2582e8ff1b10cd99d4e8e413ef469559f7d7ed12c838342f9b9c96b83a4943d1681d84b15357ff48ca579f19f5e71f18466f2bbef4bf660c2518eb20d" +
		"e2f66e3b14784269d7d876f5d35d3fbfc7039a462c716bb9f6891a7f41ad133e9e1f6d9560b960e7777c52f060492f2d7c660e1471e07e72655562035abc9a70" +
		"1b473ecbc3943c6b9c4f2405a3cb8bf8a691ca51d3f6ad2f428bab6f3a30f55dd9625563f0a75ee390e385e3ae0b906961ecf41ae073a0590c2eb6204f44831c" +
		"26dd768c35b167b28ce8dc988a3748255230cef99ebf14e730632f27414489808afab1d1e783ed04516de012498682212b07810579b250365941bcc98142da13" +
		"609e9768aaf65de7620dabec29eb82a17fde35af15ad238c73f81bdb8dec2fc0e7f932701099762b37f43c4a3c20010a3d72e2f606be108d310e639f09ce7286" +
		"800d9ef8a1a40281cc5a7ea98d2adc7c7400c2fe5a101552df4e3cccfd0cbf2ddf5dc6779cbbc68fee0c3efe4ec22b83a2caa3e48e0809a0a750b73ccdcf3c79" +
		"e6580c154f8a58f7f24335eec5c5eb5e0cf01dcf4439424095fceb077f66ded5bec73b27c5b9f64a2a9af2f07c05e99e5cf80f00252e39db32f6c19674f190c9" +
		"fbc506d826857713afd2ca6bb85cd8c107347552f30575a5417816ab4db3f603f2df56fbc413e7d0acd8bdd81352b2471fc1bc4f1ef296fea1220403466b1afe" +
		"78b94f7ecf7cc62fb92be14f18c2192384ebceaf8801afdf947f698ce9c6ceb696ed70e9e87b0144417e8d7baf25eb5f70f09f016fc925b4db048ab8d8cb2a66" +
		"1ce3b57ada67571f5dd546fc22cb1f97e0ebd1a65926b1234fd04f171cf469c76b884cf3115cce6f792cc84e36da58960c5f1d760f32c12faef477e94c92eb75" +
		"625b6a371efc72d60ca5e908b3a7dd69fef0249150e3eebdfed39cbdc3ce9704882a2072c75e13527b7a581a556168783dc1e97545e31865ddc46b3c957835da" +
		"252bb7328d3ee2062445dfb85ef8c35f8e1f3371af34023cef626e0af1e0bc017351aae2ab8f5c612ead0b729a1d059d02bfe18efa971b7300e882360a93b025" +
		"ff97e9e0eec0f3f3f13039a17f88b0cf808f488431606cb13f9241f40f44e537d302c64a4f1f4ab949b9feefadcb71ab50ef27d6d6ca8510f150c85fb525bf25" +
		"703df7209b6066f09c37280d59128d2f0f637c7d7d7fad4ed1c1ea04e628d221e3d8db77b7c878c9411cafc5071a34a00f4cf07738912753dfce48f07576f0d4" +
		"f94f42c6d76f7ce973e9367095ba7e9a3649b7f461d9f9ac1332a4d1044c96aefee67676401b64457c54d65fef6500c59cdfb69af7b6dddfcb0f086278dd8ad0" +
		"686078dfb0f3f79cd893d314168648499898fbc0ced5f95b74e8ff14d735cdea968bee74"
	standardWay = "" +
		"d8b8112f9200a5e50c4a262165bd342cd800b8496810bc716277435ac376728d129ac6eda839a6f357b5a04387c5ce97382a78f2a4372917eefcbf93f63bb591" +
		"12f5dbe400bd49e4501e859f885bf0736e90a509b30a26bfac8c17b5991c157eb5971115aa39efd8d564a6b90282c3168af2d30ef89d51bf14654510a12b8a14" +
		"4cca1848cf7da59cc2b3d9d0692dd2a20ba3863480e25b1b85ee860c62bf5136"
)

// The candidate of a signature that others made leads to the sum on top that they told.
func TestCandidateOfTheStandard(t *testing.T) {
	id, text, sig := unhex(t, standardId), unhex(t, standardText), unhex(t, standardSignature)
	key, e := Candidate(8, id, 5, text, sig)
	expect(t, "the sum on top", standardTop(t, id, key), e, unhex(t, standardAbove))
	for i := range 8 * len(sig) {
		if i < 32 || i%41 != 0 {
			continue // the typecode has its own test, and each bit would take long
		}
		key, e = Candidate(8, id, 5, text, flipped(sig, i))
		if e != api.OK || slices.Equal(standardTop(t, id, key), unhex(t, standardAbove)) {
			t.Errorf("bit %d is another one, and it is right, or %v", i, e)
		}
	}
}

// standardTop is the sum on top, by the way up from the key of the leaf 5.
func standardTop(t *testing.T, id, key []byte) []byte {
	n := 1<<5 + 5
	sum := leafSum(id, n, key)
	for beside := range slices.Chunk(unhex(t, standardWay), 32) {
		if n%2 == 1 {
			sum = knotSum(id, n/2, beside, sum)
		} else {
			sum = knotSum(id, n/2, sum, beside)
		}
		n /= 2
	}
	return sum
}
