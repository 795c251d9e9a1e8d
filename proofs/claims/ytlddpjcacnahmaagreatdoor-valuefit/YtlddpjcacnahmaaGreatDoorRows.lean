/-
  NARROWER THAN 'FOR EVERY INPUT', by the rows' own cells (each row's printed sentence says how): ValueMakes: laid · ValueTells: loops, laid · ValueParts: loops, laid · ValueBack: loops, laid · ValueFit: loops, laid.
  DERIVED. THE GIVEN ROWS OF THIS SEAT. 5 by the template 'for every input the law returns true; each argument reads behind the call as it read before'; 0 by the template 'total and deterministic' (their statements: YtlddpjcacnahmaaGreatDoorTotals.lean).
  GIVEN WITH THE SEED: the statements are not yours to turn. If you find one false, say at which input.
  Laid BY PROGRAM, IN A SANDBOX (cutbox-rows.mjs): the forced cells as the released guide's own fill.sh prints them over the translation c2b6f8f7ed3588c6… (all of the seat's roots in one cut). By AI agents, Wed Nov 11 2026. No macro, syntax, notation, axiom, sorry.
-/
import Derived.Test.YtlddpjcacnahmaaGreatDoorChecked
import GoSem.PinnedTables
import GoSem.Claim
import GoSem.ClaimJoined
import GoSem.ClaimMapViews
import Derived.JoinedTies
import Derived.KernelRfl
namespace Go.Proofs.YtlddpjcacnahmaaGreatDoor
/- THE CELL 'sum', in the pinned program and in every row, IS THE sha256 OF THE DUMP (.gsa) THAT YtlddpjcacnahmaaGreatDoorProg.lean LOADS. Nothing in Lean hashes anything: it is a label: what it is worth is what the hold of that sum in a sandbox is worth. -/
noncomputable def Tryz.pinned : Pinned := { name := "ytlddpjcacnahmaagreatdoor", sum := "c2b6f8f7ed3588c6d6aab53d4d2601b52e6b9b307cdc0f621297be23bea32d81", checked := Tryz.checked }
namespace Rows
def none {H : Type} : Left H := { results := [], args := [] }

/- WHAT THE LISTED PACKAGE-LEVEL VARIABLES READ AS WHEN THE CALL BEGINS. Each datum BY PROGRAM (the guide's laid-datum.mjs) off the statement by which the dump's own 'gosem.cut.vars' lays the variable. In a bare row this is a premise. The card (YtlddpjcacnahmaaGreatDoorCards.lean) ties it to the program's text. -/
def laid_unicode_utf8_acceptRanges {H : Type} : DataW H := .agg [.agg [.lit (.int .u8 128), .lit (.int .u8 191)], .agg [.lit (.int .u8 160), .lit (.int .u8 191)], .agg [.lit (.int .u8 128), .lit (.int .u8 159)], .agg [.lit (.int .u8 144), .lit (.int .u8 191)], .agg [.lit (.int .u8 128), .lit (.int .u8 143)], .agg [.lit (.int .u8 0), .lit (.int .u8 0)], .agg [.lit (.int .u8 0), .lit (.int .u8 0)], .agg [.lit (.int .u8 0), .lit (.int .u8 0)], .agg [.lit (.int .u8 0), .lit (.int .u8 0)], .agg [.lit (.int .u8 0), .lit (.int .u8 0)], .agg [.lit (.int .u8 0), .lit (.int .u8 0)], .agg [.lit (.int .u8 0), .lit (.int .u8 0)], .agg [.lit (.int .u8 0), .lit (.int .u8 0)], .agg [.lit (.int .u8 0), .lit (.int .u8 0)], .agg [.lit (.int .u8 0), .lit (.int .u8 0)], .agg [.lit (.int .u8 0), .lit (.int .u8 0)]]
/-- One of Go's own tables, pinned by name: the form's constant. -/
def laid_unicode_utf8_first : DataW Unit := Go.Pinned.utf8First

/-- 'apostillelaw06.ValueMakes': WHATEVER THE INPUT: true; the input reads as it did. -/
def valueMakesSpec : ChangeSpec := { name := "valueMakes", fn := fun _ => fun
  | [d1, d2, d3, d4] => { results := [.lit (.bool true)], args := [d1, d2, d3, d4] }
  | _ => none }
def valueMakesRow : OpenClaim := { program := "ytlddpjcacnahmaagreatdoor", sum := "c2b6f8f7ed3588c6d6aab53d4d2601b52e6b9b307cdc0f621297be23bea32d81", func := "apostille/apostillelaw06.ValueMakes", spec := "valueMakes", inPlace := ["internal/bytealg.MakeNoZero", "internal/bytealg.Compare"], unfollowed := true, recurses := true, named := ["unicode/utf8.first", "unicode/utf8.acceptRanges"], apart := false, laid := [("unicode/utf8.acceptRanges", laid_unicode_utf8_acceptRanges), ("unicode/utf8.first", laid_unicode_utf8_first)] }
def ValueMakesSaid : Prop := valueMakesRow.holds Tryz.pinned (OpenSpec.ofChange valueMakesSpec)

/-- ITS FALSE NEIGHBOUR: 'it returns false'. Refute it at one input. -/
def valueMakesWrong : ChangeSpec := { name := "valueMakes", fn := fun _ => fun
  | [d1, d2, d3, d4] => { results := [.lit (.bool false)], args := [d1, d2, d3, d4] }
  | _ => none }
def ValueMakesWrongFalsely : Prop := valueMakesRow.holds Tryz.pinned (OpenSpec.ofChange valueMakesWrong)

/-- 'apostillelaw06.ValueTells': WHATEVER THE INPUT: true; the input reads as it did. -/
def valueTellsSpec : ChangeSpec := { name := "valueTells", fn := fun _ => fun
  | [d] => { results := [.lit (.bool true)], args := [d] }
  | _ => none }
def valueTellsRow : OpenClaim := { program := "ytlddpjcacnahmaagreatdoor", sum := "c2b6f8f7ed3588c6d6aab53d4d2601b52e6b9b307cdc0f621297be23bea32d81", func := "apostille/apostillelaw06.ValueTells", spec := "valueTells", inPlace := ["internal/bytealg.MakeNoZero", "internal/bytealg.Compare"], unfollowed := true, recurses := true, named := ["unicode/utf8.first", "unicode/utf8.acceptRanges"], loops := true, apart := false, laid := [("unicode/utf8.acceptRanges", laid_unicode_utf8_acceptRanges), ("unicode/utf8.first", laid_unicode_utf8_first)] }
def ValueTellsSaid : Prop := valueTellsRow.holds Tryz.pinned (OpenSpec.ofChange valueTellsSpec)

/-- ITS FALSE NEIGHBOUR: 'it returns false'. Refute it at one input. -/
def valueTellsWrong : ChangeSpec := { name := "valueTells", fn := fun _ => fun
  | [d] => { results := [.lit (.bool false)], args := [d] }
  | _ => none }
def ValueTellsWrongFalsely : Prop := valueTellsRow.holds Tryz.pinned (OpenSpec.ofChange valueTellsWrong)

/-- 'apostillelaw06.ValueParts': WHATEVER THE INPUT: true; the input reads as it did. -/
def valuePartsSpec : ChangeSpec := { name := "valueParts", fn := fun _ => fun
  | [d1, d2, d3, d4, d5] => { results := [.lit (.bool true)], args := [d1, d2, d3, d4, d5] }
  | _ => none }
def valuePartsRow : OpenClaim := { program := "ytlddpjcacnahmaagreatdoor", sum := "c2b6f8f7ed3588c6d6aab53d4d2601b52e6b9b307cdc0f621297be23bea32d81", func := "apostille/apostillelaw06.ValueParts", spec := "valueParts", inPlace := ["internal/bytealg.MakeNoZero", "internal/bytealg.Compare"], unfollowed := true, recurses := true, named := ["unicode/utf8.first", "unicode/utf8.acceptRanges"], loops := true, apart := false, laid := [("unicode/utf8.acceptRanges", laid_unicode_utf8_acceptRanges), ("unicode/utf8.first", laid_unicode_utf8_first)] }
def ValuePartsSaid : Prop := valuePartsRow.holds Tryz.pinned (OpenSpec.ofChange valuePartsSpec)

/-- ITS FALSE NEIGHBOUR: 'it returns false'. Refute it at one input. -/
def valuePartsWrong : ChangeSpec := { name := "valueParts", fn := fun _ => fun
  | [d1, d2, d3, d4, d5] => { results := [.lit (.bool false)], args := [d1, d2, d3, d4, d5] }
  | _ => none }
def ValuePartsWrongFalsely : Prop := valuePartsRow.holds Tryz.pinned (OpenSpec.ofChange valuePartsWrong)

/-- 'apostillelaw06.ValueBack': WHATEVER THE INPUT: true; the input reads as it did. -/
def valueBackSpec : ChangeSpec := { name := "valueBack", fn := fun _ => fun
  | [d1, d2, d3, d4, d5] => { results := [.lit (.bool true)], args := [d1, d2, d3, d4, d5] }
  | _ => none }
def valueBackRow : OpenClaim := { program := "ytlddpjcacnahmaagreatdoor", sum := "c2b6f8f7ed3588c6d6aab53d4d2601b52e6b9b307cdc0f621297be23bea32d81", func := "apostille/apostillelaw06.ValueBack", spec := "valueBack", inPlace := ["internal/bytealg.MakeNoZero", "internal/bytealg.Compare"], unfollowed := true, recurses := true, named := ["unicode/utf8.first", "unicode/utf8.acceptRanges"], loops := true, apart := false, laid := [("unicode/utf8.acceptRanges", laid_unicode_utf8_acceptRanges), ("unicode/utf8.first", laid_unicode_utf8_first)] }
def ValueBackSaid : Prop := valueBackRow.holds Tryz.pinned (OpenSpec.ofChange valueBackSpec)

/-- ITS FALSE NEIGHBOUR: 'it returns false'. Refute it at one input. -/
def valueBackWrong : ChangeSpec := { name := "valueBack", fn := fun _ => fun
  | [d1, d2, d3, d4, d5] => { results := [.lit (.bool false)], args := [d1, d2, d3, d4, d5] }
  | _ => none }
def ValueBackWrongFalsely : Prop := valueBackRow.holds Tryz.pinned (OpenSpec.ofChange valueBackWrong)

/-- 'apostillelaw06.ValueFit': WHATEVER THE INPUT: true; the input reads as it did. -/
def valueFitSpec : ChangeSpec := { name := "valueFit", fn := fun _ => fun
  | [d1, d2, d3, d4] => { results := [.lit (.bool true)], args := [d1, d2, d3, d4] }
  | _ => none }
def valueFitRow : OpenClaim := { program := "ytlddpjcacnahmaagreatdoor", sum := "c2b6f8f7ed3588c6d6aab53d4d2601b52e6b9b307cdc0f621297be23bea32d81", func := "apostille/apostillelaw06.ValueFit", spec := "valueFit", inPlace := ["internal/bytealg.MakeNoZero", "internal/bytealg.Compare"], unfollowed := true, recurses := true, named := ["unicode/utf8.first", "unicode/utf8.acceptRanges"], loops := true, apart := false, laid := [("unicode/utf8.acceptRanges", laid_unicode_utf8_acceptRanges), ("unicode/utf8.first", laid_unicode_utf8_first)] }
def ValueFitSaid : Prop := valueFitRow.holds Tryz.pinned (OpenSpec.ofChange valueFitSpec)

/-- ITS FALSE NEIGHBOUR: 'it returns false'. Refute it at one input. -/
def valueFitWrong : ChangeSpec := { name := "valueFit", fn := fun _ => fun
  | [d1, d2, d3, d4] => { results := [.lit (.bool false)], args := [d1, d2, d3, d4] }
  | _ => none }
def ValueFitWrongFalsely : Prop := valueFitRow.holds Tryz.pinned (OpenSpec.ofChange valueFitWrong)

/- THE SECOND FORM. 'bulk': how many values and letters a reading holds, each counted each time it is reached (what is shared counts as often as it is met; a slice's spare places count too). A statement '..UptoSaid' is the law's where the arguments, and the package variables that the reading takes, are together of bulk at most 1048576: NARROWER than '..Said'. Prove '..Said' where nothing that the law and all that it calls make is longer than what came in: it says more and counts as full. Else prove '..UptoSaid'. A law counts once. -/
mutual
def uptoBulk {H : Type} : DataW H → Nat
  | .lit (.string bytes) => bytes.length + 1
  | .lit _ => 1
  | .nil => 1
  | .ptr d => uptoBulk d + 1
  | .slice elems spare => uptoBulkAll elems + uptoBulkAll spare + 1
  | .agg parts => uptoBulkAll parts + 1
  | .iface _ d => uptoBulk d + 1
  | .map entries => uptoBulkEntries entries + 1
  | .held _ => 1
def uptoBulkAll {H : Type} : List (DataW H) → Nat
  | [] => 0
  | d :: r => uptoBulk d + uptoBulkAll r
def uptoBulkEntries {H : Type} : List (Lit × DataW H) → Nat
  | [] => 0
  | x :: r => uptoBulkEntry x + uptoBulkEntries r
def uptoBulkEntry {H : Type} : Lit × DataW H → Nat
  | (.string bytes, d) => bytes.length + uptoBulk d + 1
  | (_, d) => uptoBulk d + 1
 end
def uptoSmall : (H : Type) → List (DataW H) → Bool := fun _ ds => decide (uptoBulkAll ds ≤ 1048576)
def OpenSpec.upto (s : _root_.Go.ChangeSpec) : _root_.Go.OpenSpec := { _root_.Go.OpenSpec.ofChange s with cond := some uptoSmall }

/-- 'apostillelaw06.ValueMakes', WHERE WHAT IT READS IS OF BULK AT MOST 1048576: true; the input reads as it did. -/
def valueMakesUptoRow : OpenClaim := { program := "ytlddpjcacnahmaagreatdoor", sum := "c2b6f8f7ed3588c6d6aab53d4d2601b52e6b9b307cdc0f621297be23bea32d81", func := "apostille/apostillelaw06.ValueMakes", spec := "valueMakes", inPlace := ["internal/bytealg.MakeNoZero", "internal/bytealg.Compare"], unfollowed := true, recurses := true, named := ["unicode/utf8.first", "unicode/utf8.acceptRanges"], apart := false, laid := [("unicode/utf8.acceptRanges", laid_unicode_utf8_acceptRanges), ("unicode/utf8.first", laid_unicode_utf8_first)], narrowed := true }
def ValueMakesUptoSaid : Prop := valueMakesUptoRow.holds Tryz.pinned (OpenSpec.upto valueMakesSpec)

/-- 'apostillelaw06.ValueTells', WHERE WHAT IT READS IS OF BULK AT MOST 1048576: true; the input reads as it did. -/
def valueTellsUptoRow : OpenClaim := { program := "ytlddpjcacnahmaagreatdoor", sum := "c2b6f8f7ed3588c6d6aab53d4d2601b52e6b9b307cdc0f621297be23bea32d81", func := "apostille/apostillelaw06.ValueTells", spec := "valueTells", inPlace := ["internal/bytealg.MakeNoZero", "internal/bytealg.Compare"], unfollowed := true, recurses := true, named := ["unicode/utf8.first", "unicode/utf8.acceptRanges"], loops := true, apart := false, laid := [("unicode/utf8.acceptRanges", laid_unicode_utf8_acceptRanges), ("unicode/utf8.first", laid_unicode_utf8_first)], narrowed := true }
def ValueTellsUptoSaid : Prop := valueTellsUptoRow.holds Tryz.pinned (OpenSpec.upto valueTellsSpec)

/-- 'apostillelaw06.ValueParts', WHERE WHAT IT READS IS OF BULK AT MOST 1048576: true; the input reads as it did. -/
def valuePartsUptoRow : OpenClaim := { program := "ytlddpjcacnahmaagreatdoor", sum := "c2b6f8f7ed3588c6d6aab53d4d2601b52e6b9b307cdc0f621297be23bea32d81", func := "apostille/apostillelaw06.ValueParts", spec := "valueParts", inPlace := ["internal/bytealg.MakeNoZero", "internal/bytealg.Compare"], unfollowed := true, recurses := true, named := ["unicode/utf8.first", "unicode/utf8.acceptRanges"], loops := true, apart := false, laid := [("unicode/utf8.acceptRanges", laid_unicode_utf8_acceptRanges), ("unicode/utf8.first", laid_unicode_utf8_first)], narrowed := true }
def ValuePartsUptoSaid : Prop := valuePartsUptoRow.holds Tryz.pinned (OpenSpec.upto valuePartsSpec)

/-- 'apostillelaw06.ValueBack', WHERE WHAT IT READS IS OF BULK AT MOST 1048576: true; the input reads as it did. -/
def valueBackUptoRow : OpenClaim := { program := "ytlddpjcacnahmaagreatdoor", sum := "c2b6f8f7ed3588c6d6aab53d4d2601b52e6b9b307cdc0f621297be23bea32d81", func := "apostille/apostillelaw06.ValueBack", spec := "valueBack", inPlace := ["internal/bytealg.MakeNoZero", "internal/bytealg.Compare"], unfollowed := true, recurses := true, named := ["unicode/utf8.first", "unicode/utf8.acceptRanges"], loops := true, apart := false, laid := [("unicode/utf8.acceptRanges", laid_unicode_utf8_acceptRanges), ("unicode/utf8.first", laid_unicode_utf8_first)], narrowed := true }
def ValueBackUptoSaid : Prop := valueBackUptoRow.holds Tryz.pinned (OpenSpec.upto valueBackSpec)

/-- 'apostillelaw06.ValueFit', WHERE WHAT IT READS IS OF BULK AT MOST 1048576: true; the input reads as it did. -/
def valueFitUptoRow : OpenClaim := { program := "ytlddpjcacnahmaagreatdoor", sum := "c2b6f8f7ed3588c6d6aab53d4d2601b52e6b9b307cdc0f621297be23bea32d81", func := "apostille/apostillelaw06.ValueFit", spec := "valueFit", inPlace := ["internal/bytealg.MakeNoZero", "internal/bytealg.Compare"], unfollowed := true, recurses := true, named := ["unicode/utf8.first", "unicode/utf8.acceptRanges"], loops := true, apart := false, laid := [("unicode/utf8.acceptRanges", laid_unicode_utf8_acceptRanges), ("unicode/utf8.first", laid_unicode_utf8_first)], narrowed := true }
def ValueFitUptoSaid : Prop := valueFitUptoRow.holds Tryz.pinned (OpenSpec.upto valueFitSpec)

end Rows
end Go.Proofs.YtlddpjcacnahmaaGreatDoor
