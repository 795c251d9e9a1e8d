/-
  No cell of these rows narrows 'for every input' (looked for: loops, veiled, ifaces, maps, wideKeys, modest, calm, conditions, laid).
  DERIVED. THE GIVEN ROWS OF THIS SEAT. 5 by the template 'for every input the law returns true; each argument reads behind the call as it read before'; 0 by the template 'total and deterministic' (their statements: YtbcgjbohhaihcaaTotals.lean).
  GIVEN WITH THE SEED: the statements are not yours to turn. If you find one false, say at which input.
  Laid BY PROGRAM, IN A SANDBOX (cutbox-rows.mjs): the forced cells as the released guide's own fill.sh prints them over the translation 604d1be4e1686f04… (all of the seat's roots in one cut). By AI agents, Wed Nov 11 2026. No macro, syntax, notation, axiom, sorry.
-/
import Derived.Test.YtbcgjbohhaihcaaChecked
import GoSem.Claim
import GoSem.ClaimJoined
import GoSem.ClaimMapViews
import Derived.JoinedTies
import Derived.KernelRfl
namespace Go.Proofs.Ytbcgjbohhaihcaa
/- THE CELL 'sum', in the pinned program and in every row, IS THE sha256 OF THE DUMP (.gsa) THAT YtbcgjbohhaihcaaProg.lean LOADS. Nothing in Lean hashes anything: it is a label: what it is worth is what the hold of that sum in a sandbox is worth. -/
noncomputable def Try.pinned : Pinned := { name := "ytbcgjbohhaihcaa", sum := "604d1be4e1686f04299f0c5aa75482bb1010c819a8c00423ce3e7be85d2030e9", checked := Try.checked }
namespace Rows
def none {H : Type} : Left H := { results := [], args := [] }

/-- 'apostillelaw01.BitsTells': WHATEVER THE INPUT: true; the input reads as it did. -/
def bitsTellsSpec : ChangeSpec := { name := "bitsTells", fn := fun _ => fun
  | [d1, d2, d3] => { results := [.lit (.bool true)], args := [d1, d2, d3] }
  | _ => none }
def bitsTellsRow : OpenClaim := { program := "ytbcgjbohhaihcaa", sum := "604d1be4e1686f04299f0c5aa75482bb1010c819a8c00423ce3e7be85d2030e9", func := "apostille/apostillelaw01.BitsTells", spec := "bitsTells", apart := false }
def BitsTellsSaid : Prop := bitsTellsRow.holds Try.pinned (OpenSpec.ofChange bitsTellsSpec)

/-- ITS FALSE NEIGHBOUR: 'it returns false'. Refute it at one input. -/
def bitsTellsWrong : ChangeSpec := { name := "bitsTells", fn := fun _ => fun
  | [d1, d2, d3] => { results := [.lit (.bool false)], args := [d1, d2, d3] }
  | _ => none }
def BitsTellsWrongFalsely : Prop := bitsTellsRow.holds Try.pinned (OpenSpec.ofChange bitsTellsWrong)

/-- 'apostillelaw01.BitsTexts': WHATEVER THE INPUT: true; the input reads as it did. -/
def bitsTextsSpec : ChangeSpec := { name := "bitsTexts", fn := fun _ => fun
  | [d1, d2, d3] => { results := [.lit (.bool true)], args := [d1, d2, d3] }
  | _ => none }
def bitsTextsRow : OpenClaim := { program := "ytbcgjbohhaihcaa", sum := "604d1be4e1686f04299f0c5aa75482bb1010c819a8c00423ce3e7be85d2030e9", func := "apostille/apostillelaw01.BitsTexts", spec := "bitsTexts", apart := false }
def BitsTextsSaid : Prop := bitsTextsRow.holds Try.pinned (OpenSpec.ofChange bitsTextsSpec)

/-- ITS FALSE NEIGHBOUR: 'it returns false'. Refute it at one input. -/
def bitsTextsWrong : ChangeSpec := { name := "bitsTexts", fn := fun _ => fun
  | [d1, d2, d3] => { results := [.lit (.bool false)], args := [d1, d2, d3] }
  | _ => none }
def BitsTextsWrongFalsely : Prop := bitsTextsRow.holds Try.pinned (OpenSpec.ofChange bitsTextsWrong)

/-- 'apostillelaw01.BitsPacks': WHATEVER THE INPUT: true; the input reads as it did. -/
def bitsPacksSpec : ChangeSpec := { name := "bitsPacks", fn := fun _ => fun
  | [d1, d2, d3, d4] => { results := [.lit (.bool true)], args := [d1, d2, d3, d4] }
  | _ => none }
def bitsPacksRow : OpenClaim := { program := "ytbcgjbohhaihcaa", sum := "604d1be4e1686f04299f0c5aa75482bb1010c819a8c00423ce3e7be85d2030e9", func := "apostille/apostillelaw01.BitsPacks", spec := "bitsPacks", apart := false }
def BitsPacksSaid : Prop := bitsPacksRow.holds Try.pinned (OpenSpec.ofChange bitsPacksSpec)

/-- ITS FALSE NEIGHBOUR: 'it returns false'. Refute it at one input. -/
def bitsPacksWrong : ChangeSpec := { name := "bitsPacks", fn := fun _ => fun
  | [d1, d2, d3, d4] => { results := [.lit (.bool false)], args := [d1, d2, d3, d4] }
  | _ => none }
def BitsPacksWrongFalsely : Prop := bitsPacksRow.holds Try.pinned (OpenSpec.ofChange bitsPacksWrong)

/-- 'apostillelaw01.BitsBack': WHATEVER THE INPUT: true; the input reads as it did. -/
def bitsBackSpec : ChangeSpec := { name := "bitsBack", fn := fun _ => fun
  | [d1, d2, d3, d4, d5] => { results := [.lit (.bool true)], args := [d1, d2, d3, d4, d5] }
  | _ => none }
def bitsBackRow : OpenClaim := { program := "ytbcgjbohhaihcaa", sum := "604d1be4e1686f04299f0c5aa75482bb1010c819a8c00423ce3e7be85d2030e9", func := "apostille/apostillelaw01.BitsBack", spec := "bitsBack", apart := false }
def BitsBackSaid : Prop := bitsBackRow.holds Try.pinned (OpenSpec.ofChange bitsBackSpec)

/-- ITS FALSE NEIGHBOUR: 'it returns false'. Refute it at one input. -/
def bitsBackWrong : ChangeSpec := { name := "bitsBack", fn := fun _ => fun
  | [d1, d2, d3, d4, d5] => { results := [.lit (.bool false)], args := [d1, d2, d3, d4, d5] }
  | _ => none }
def BitsBackWrongFalsely : Prop := bitsBackRow.holds Try.pinned (OpenSpec.ofChange bitsBackWrong)

/-- 'apostillelaw01.BitsRounds': WHATEVER THE INPUT: true; the input reads as it did. -/
def bitsRoundsSpec : ChangeSpec := { name := "bitsRounds", fn := fun _ => fun
  | [d1, d2] => { results := [.lit (.bool true)], args := [d1, d2] }
  | _ => none }
def bitsRoundsRow : OpenClaim := { program := "ytbcgjbohhaihcaa", sum := "604d1be4e1686f04299f0c5aa75482bb1010c819a8c00423ce3e7be85d2030e9", func := "apostille/apostillelaw01.BitsRounds", spec := "bitsRounds", apart := false }
def BitsRoundsSaid : Prop := bitsRoundsRow.holds Try.pinned (OpenSpec.ofChange bitsRoundsSpec)

/-- ITS FALSE NEIGHBOUR: 'it returns false'. Refute it at one input. -/
def bitsRoundsWrong : ChangeSpec := { name := "bitsRounds", fn := fun _ => fun
  | [d1, d2] => { results := [.lit (.bool false)], args := [d1, d2] }
  | _ => none }
def BitsRoundsWrongFalsely : Prop := bitsRoundsRow.holds Try.pinned (OpenSpec.ofChange bitsRoundsWrong)

/- THE SECOND FORM. 'bulk': how many values and letters a reading holds, each counted each time it is reached (what is shared counts as often as it is met; a slice's spare places count too). A statement '..UptoSaid' is the law's where the arguments, and the package variables that the reading takes, are together of bulk at most 1048576: NARROWER than '..Said'. Prove '..Said' where nothing that the law and all that it calls make is longer than what came in: it says more and counts as full. Else prove '..UptoSaid'. A law counts once. -/
mutual
def uptoBulk {H : Type} : DataW H → Nat
  | .lit (.string bytes) => bytes.length + 1
  | .lit _ => 1
  | .nil => 1
  | .ptr d => uptoBulk d + 1
  | .slice elems spare => uptoBulkAll elems + uptoBulkAll spare + 1
  | .agg parts => uptoBulkAll parts + 1
  | .iface _ d => uptoBulk d + 1
  | .map entries => uptoBulkEntries entries + 1
  | .held _ => 1
def uptoBulkAll {H : Type} : List (DataW H) → Nat
  | [] => 0
  | d :: r => uptoBulk d + uptoBulkAll r
def uptoBulkEntries {H : Type} : List (Lit × DataW H) → Nat
  | [] => 0
  | x :: r => uptoBulkEntry x + uptoBulkEntries r
def uptoBulkEntry {H : Type} : Lit × DataW H → Nat
  | (.string bytes, d) => bytes.length + uptoBulk d + 1
  | (_, d) => uptoBulk d + 1
 end
def uptoSmall : (H : Type) → List (DataW H) → Bool := fun _ ds => decide (uptoBulkAll ds ≤ 1048576)
def OpenSpec.upto (s : _root_.Go.ChangeSpec) : _root_.Go.OpenSpec := { _root_.Go.OpenSpec.ofChange s with cond := some uptoSmall }

/-- 'apostillelaw01.BitsTells', WHERE WHAT IT READS IS OF BULK AT MOST 1048576: true; the input reads as it did. -/
def bitsTellsUptoRow : OpenClaim := { program := "ytbcgjbohhaihcaa", sum := "604d1be4e1686f04299f0c5aa75482bb1010c819a8c00423ce3e7be85d2030e9", func := "apostille/apostillelaw01.BitsTells", spec := "bitsTells", apart := false, narrowed := true }
def BitsTellsUptoSaid : Prop := bitsTellsUptoRow.holds Try.pinned (OpenSpec.upto bitsTellsSpec)

/-- 'apostillelaw01.BitsTexts', WHERE WHAT IT READS IS OF BULK AT MOST 1048576: true; the input reads as it did. -/
def bitsTextsUptoRow : OpenClaim := { program := "ytbcgjbohhaihcaa", sum := "604d1be4e1686f04299f0c5aa75482bb1010c819a8c00423ce3e7be85d2030e9", func := "apostille/apostillelaw01.BitsTexts", spec := "bitsTexts", apart := false, narrowed := true }
def BitsTextsUptoSaid : Prop := bitsTextsUptoRow.holds Try.pinned (OpenSpec.upto bitsTextsSpec)

/-- 'apostillelaw01.BitsPacks', WHERE WHAT IT READS IS OF BULK AT MOST 1048576: true; the input reads as it did. -/
def bitsPacksUptoRow : OpenClaim := { program := "ytbcgjbohhaihcaa", sum := "604d1be4e1686f04299f0c5aa75482bb1010c819a8c00423ce3e7be85d2030e9", func := "apostille/apostillelaw01.BitsPacks", spec := "bitsPacks", apart := false, narrowed := true }
def BitsPacksUptoSaid : Prop := bitsPacksUptoRow.holds Try.pinned (OpenSpec.upto bitsPacksSpec)

/-- 'apostillelaw01.BitsBack', WHERE WHAT IT READS IS OF BULK AT MOST 1048576: true; the input reads as it did. -/
def bitsBackUptoRow : OpenClaim := { program := "ytbcgjbohhaihcaa", sum := "604d1be4e1686f04299f0c5aa75482bb1010c819a8c00423ce3e7be85d2030e9", func := "apostille/apostillelaw01.BitsBack", spec := "bitsBack", apart := false, narrowed := true }
def BitsBackUptoSaid : Prop := bitsBackUptoRow.holds Try.pinned (OpenSpec.upto bitsBackSpec)

/-- 'apostillelaw01.BitsRounds', WHERE WHAT IT READS IS OF BULK AT MOST 1048576: true; the input reads as it did. -/
def bitsRoundsUptoRow : OpenClaim := { program := "ytbcgjbohhaihcaa", sum := "604d1be4e1686f04299f0c5aa75482bb1010c819a8c00423ce3e7be85d2030e9", func := "apostille/apostillelaw01.BitsRounds", spec := "bitsRounds", apart := false, narrowed := true }
def BitsRoundsUptoSaid : Prop := bitsRoundsUptoRow.holds Try.pinned (OpenSpec.upto bitsRoundsSpec)

end Rows
end Go.Proofs.Ytbcgjbohhaihcaa
