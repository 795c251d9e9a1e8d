/-
  No cell of these rows narrows 'for every input' (looked for: loops, veiled, ifaces, maps, wideKeys, modest, calm, conditions, laid).
  DERIVED. THE GIVEN ROWS OF THIS SEAT. 4 by the template 'for every input the law returns true; each argument reads behind the call as it read before'; 0 by the template 'total and deterministic' (their statements: YteiknfcegchbcaaTotals.lean).
  GIVEN WITH THE SEED: the statements are not yours to turn. If you find one false, say at which input.
  Laid BY PROGRAM, IN A SANDBOX (cutbox-rows.mjs): the forced cells as the released guide's own fill.sh prints them over the translation ec557d5000eca2ae… (all of the seat's roots in one cut). By AI agents, Wed Nov 11 2026. No macro, syntax, notation, axiom, sorry.
-/
import Derived.Test.YteiknfcegchbcaaChecked
import GoSem.Claim
import GoSem.ClaimJoined
import GoSem.ClaimMapViews
import Derived.JoinedTies
import Derived.KernelRfl
namespace Go.Proofs.Yteiknfcegchbcaa
/- THE CELL 'sum', in the pinned program and in every row, IS THE sha256 OF THE DUMP (.gsa) THAT YteiknfcegchbcaaProg.lean LOADS. Nothing in Lean hashes anything: it is a label: what it is worth is what the hold of that sum in a sandbox is worth. -/
noncomputable def Try.pinned : Pinned := { name := "yteiknfcegchbcaa", sum := "ec557d5000eca2ae895547f39c5cb979e88e083a41224928af87e7bda3d2a969", checked := Try.checked }
namespace Rows
def none {H : Type} : Left H := { results := [], args := [] }

/-- 'apostillelaw10.AesBlocks': WHATEVER THE INPUT: true; the input reads as it did. -/
def aesBlocksSpec : ChangeSpec := { name := "aesBlocks", fn := fun _ => fun
  | [d1, d2] => { results := [.lit (.bool true)], args := [d1, d2] }
  | _ => none }
def aesBlocksRow : OpenClaim := { program := "yteiknfcegchbcaa", sum := "ec557d5000eca2ae895547f39c5cb979e88e083a41224928af87e7bda3d2a969", func := "apostille/apostillelaw10.AesBlocks", spec := "aesBlocks", apart := false }
def AesBlocksSaid : Prop := aesBlocksRow.holds Try.pinned (OpenSpec.ofChange aesBlocksSpec)

/-- ITS FALSE NEIGHBOUR: 'it returns false'. Refute it at one input. -/
def aesBlocksWrong : ChangeSpec := { name := "aesBlocks", fn := fun _ => fun
  | [d1, d2] => { results := [.lit (.bool false)], args := [d1, d2] }
  | _ => none }
def AesBlocksWrongFalsely : Prop := aesBlocksRow.holds Try.pinned (OpenSpec.ofChange aesBlocksWrong)

/-- 'apostillelaw10.AesChains': WHATEVER THE INPUT: true; the input reads as it did. -/
def aesChainsSpec : ChangeSpec := { name := "aesChains", fn := fun _ => fun
  | [d1, d2, d3] => { results := [.lit (.bool true)], args := [d1, d2, d3] }
  | _ => none }
def aesChainsRow : OpenClaim := { program := "yteiknfcegchbcaa", sum := "ec557d5000eca2ae895547f39c5cb979e88e083a41224928af87e7bda3d2a969", func := "apostille/apostillelaw10.AesChains", spec := "aesChains", inPlace := ["internal/bytealg.MakeNoZero"], unfollowed := true, recurses := true, apart := false }
def AesChainsSaid : Prop := aesChainsRow.holds Try.pinned (OpenSpec.ofChange aesChainsSpec)

/-- ITS FALSE NEIGHBOUR: 'it returns false'. Refute it at one input. -/
def aesChainsWrong : ChangeSpec := { name := "aesChains", fn := fun _ => fun
  | [d1, d2, d3] => { results := [.lit (.bool false)], args := [d1, d2, d3] }
  | _ => none }
def AesChainsWrongFalsely : Prop := aesChainsRow.holds Try.pinned (OpenSpec.ofChange aesChainsWrong)

/-- 'apostillelaw10.AesBytes': WHATEVER THE INPUT: true; the input reads as it did. -/
def aesBytesSpec : ChangeSpec := { name := "aesBytes", fn := fun _ => fun
  | [d1, d2, d3] => { results := [.lit (.bool true)], args := [d1, d2, d3] }
  | _ => none }
def aesBytesRow : OpenClaim := { program := "yteiknfcegchbcaa", sum := "ec557d5000eca2ae895547f39c5cb979e88e083a41224928af87e7bda3d2a969", func := "apostille/apostillelaw10.AesBytes", spec := "aesBytes", apart := false }
def AesBytesSaid : Prop := aesBytesRow.holds Try.pinned (OpenSpec.ofChange aesBytesSpec)

/-- ITS FALSE NEIGHBOUR: 'it returns false'. Refute it at one input. -/
def aesBytesWrong : ChangeSpec := { name := "aesBytes", fn := fun _ => fun
  | [d1, d2, d3] => { results := [.lit (.bool false)], args := [d1, d2, d3] }
  | _ => none }
def AesBytesWrongFalsely : Prop := aesBytesRow.holds Try.pinned (OpenSpec.ofChange aesBytesWrong)

/-- 'apostillelaw10.AesBack': WHATEVER THE INPUT: true; the input reads as it did. -/
def aesBackSpec : ChangeSpec := { name := "aesBack", fn := fun _ => fun
  | [d1, d2, d3, d4] => { results := [.lit (.bool true)], args := [d1, d2, d3, d4] }
  | _ => none }
def aesBackRow : OpenClaim := { program := "yteiknfcegchbcaa", sum := "ec557d5000eca2ae895547f39c5cb979e88e083a41224928af87e7bda3d2a969", func := "apostille/apostillelaw10.AesBack", spec := "aesBack", inPlace := ["internal/bytealg.MakeNoZero"], unfollowed := true, recurses := true, apart := false }
def AesBackSaid : Prop := aesBackRow.holds Try.pinned (OpenSpec.ofChange aesBackSpec)

/-- ITS FALSE NEIGHBOUR: 'it returns false'. Refute it at one input. -/
def aesBackWrong : ChangeSpec := { name := "aesBack", fn := fun _ => fun
  | [d1, d2, d3, d4] => { results := [.lit (.bool false)], args := [d1, d2, d3, d4] }
  | _ => none }
def AesBackWrongFalsely : Prop := aesBackRow.holds Try.pinned (OpenSpec.ofChange aesBackWrong)

/- THE SECOND FORM. 'bulk': how many values and letters a reading holds, each counted each time it is reached (what is shared counts as often as it is met; a slice's spare places count too). A statement '..UptoSaid' is the law's where the arguments, and the package variables that the reading takes, are together of bulk at most 1048576: NARROWER than '..Said'. Prove '..Said' where nothing that the law and all that it calls make is longer than what came in: it says more and counts as full. Else prove '..UptoSaid'. A law counts once. -/
mutual
def uptoBulk {H : Type} : DataW H → Nat
  | .lit (.string bytes) => bytes.length + 1
  | .lit _ => 1
  | .nil => 1
  | .ptr d => uptoBulk d + 1
  | .slice elems spare => uptoBulkAll elems + uptoBulkAll spare + 1
  | .agg parts => uptoBulkAll parts + 1
  | .iface _ d => uptoBulk d + 1
  | .map entries => uptoBulkEntries entries + 1
  | .held _ => 1
def uptoBulkAll {H : Type} : List (DataW H) → Nat
  | [] => 0
  | d :: r => uptoBulk d + uptoBulkAll r
def uptoBulkEntries {H : Type} : List (Lit × DataW H) → Nat
  | [] => 0
  | x :: r => uptoBulkEntry x + uptoBulkEntries r
def uptoBulkEntry {H : Type} : Lit × DataW H → Nat
  | (.string bytes, d) => bytes.length + uptoBulk d + 1
  | (_, d) => uptoBulk d + 1
 end
def uptoSmall : (H : Type) → List (DataW H) → Bool := fun _ ds => decide (uptoBulkAll ds ≤ 1048576)
def OpenSpec.upto (s : _root_.Go.ChangeSpec) : _root_.Go.OpenSpec := { _root_.Go.OpenSpec.ofChange s with cond := some uptoSmall }

/-- 'apostillelaw10.AesBlocks', WHERE WHAT IT READS IS OF BULK AT MOST 1048576: true; the input reads as it did. -/
def aesBlocksUptoRow : OpenClaim := { program := "yteiknfcegchbcaa", sum := "ec557d5000eca2ae895547f39c5cb979e88e083a41224928af87e7bda3d2a969", func := "apostille/apostillelaw10.AesBlocks", spec := "aesBlocks", apart := false, narrowed := true }
def AesBlocksUptoSaid : Prop := aesBlocksUptoRow.holds Try.pinned (OpenSpec.upto aesBlocksSpec)

/-- 'apostillelaw10.AesChains', WHERE WHAT IT READS IS OF BULK AT MOST 1048576: true; the input reads as it did. -/
def aesChainsUptoRow : OpenClaim := { program := "yteiknfcegchbcaa", sum := "ec557d5000eca2ae895547f39c5cb979e88e083a41224928af87e7bda3d2a969", func := "apostille/apostillelaw10.AesChains", spec := "aesChains", inPlace := ["internal/bytealg.MakeNoZero"], unfollowed := true, recurses := true, apart := false, narrowed := true }
def AesChainsUptoSaid : Prop := aesChainsUptoRow.holds Try.pinned (OpenSpec.upto aesChainsSpec)

/-- 'apostillelaw10.AesBytes', WHERE WHAT IT READS IS OF BULK AT MOST 1048576: true; the input reads as it did. -/
def aesBytesUptoRow : OpenClaim := { program := "yteiknfcegchbcaa", sum := "ec557d5000eca2ae895547f39c5cb979e88e083a41224928af87e7bda3d2a969", func := "apostille/apostillelaw10.AesBytes", spec := "aesBytes", apart := false, narrowed := true }
def AesBytesUptoSaid : Prop := aesBytesUptoRow.holds Try.pinned (OpenSpec.upto aesBytesSpec)

/-- 'apostillelaw10.AesBack', WHERE WHAT IT READS IS OF BULK AT MOST 1048576: true; the input reads as it did. -/
def aesBackUptoRow : OpenClaim := { program := "yteiknfcegchbcaa", sum := "ec557d5000eca2ae895547f39c5cb979e88e083a41224928af87e7bda3d2a969", func := "apostille/apostillelaw10.AesBack", spec := "aesBack", inPlace := ["internal/bytealg.MakeNoZero"], unfollowed := true, recurses := true, apart := false, narrowed := true }
def AesBackUptoSaid : Prop := aesBackUptoRow.holds Try.pinned (OpenSpec.upto aesBackSpec)

end Rows
end Go.Proofs.Yteiknfcegchbcaa
