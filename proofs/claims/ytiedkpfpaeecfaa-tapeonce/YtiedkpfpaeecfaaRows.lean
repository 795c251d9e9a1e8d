/-
  No cell of these rows narrows 'for every input' (looked for: loops, veiled, ifaces, maps, wideKeys, modest, calm, conditions, laid).
  DERIVED. THE GIVEN ROWS OF THIS SEAT. 2 by the template 'for every input the law returns true; each argument reads behind the call as it read before'; 0 by the template 'total and deterministic' (their statements: YtiedkpfpaeecfaaTotals.lean).
  GIVEN WITH THE SEED: the statements are not yours to turn. If you find one false, say at which input.
  Laid BY PROGRAM, IN A SANDBOX (cutbox-rows.mjs): the forced cells as the released guide's own fill.sh prints them over the translation afaa89a38d19ff41… (all of the seat's roots in one cut). By AI agents, Wed Nov 11 2026. No macro, syntax, notation, axiom, sorry.
-/
import Derived.Test.YtiedkpfpaeecfaaChecked
import GoSem.Claim
import GoSem.ClaimJoined
import GoSem.ClaimMapViews
import Derived.JoinedTies
import Derived.KernelRfl
namespace Go.Proofs.Ytiedkpfpaeecfaa
/- THE CELL 'sum', in the pinned program and in every row, IS THE sha256 OF THE DUMP (.gsa) THAT YtiedkpfpaeecfaaProg.lean LOADS. Nothing in Lean hashes anything: it is a label: what it is worth is what the hold of that sum in a sandbox is worth. -/
noncomputable def Try.pinned : Pinned := { name := "ytiedkpfpaeecfaa", sum := "afaa89a38d19ff41a34401d9231702746ec98abb0e1dee48dcdfcb1806799ad0", checked := Try.checked }
namespace Rows
def none {H : Type} : Left H := { results := [], args := [] }

/-- 'apostillelaw13.TapeTells': WHATEVER THE INPUT: true; the input reads as it did. -/
def tapeTellsSpec : ChangeSpec := { name := "tapeTells", fn := fun _ => fun
  | [d1, d2, d3, d4] => { results := [.lit (.bool true)], args := [d1, d2, d3, d4] }
  | _ => none }
def tapeTellsRow : OpenClaim := { program := "ytiedkpfpaeecfaa", sum := "afaa89a38d19ff41a34401d9231702746ec98abb0e1dee48dcdfcb1806799ad0", func := "apostille/apostillelaw13.TapeTells", spec := "tapeTells", unfollowed := true, recurses := true, apart := false }
def TapeTellsSaid : Prop := tapeTellsRow.holds Try.pinned (OpenSpec.ofChange tapeTellsSpec)

/-- ITS FALSE NEIGHBOUR: 'it returns false'. Refute it at one input. -/
def tapeTellsWrong : ChangeSpec := { name := "tapeTells", fn := fun _ => fun
  | [d1, d2, d3, d4] => { results := [.lit (.bool false)], args := [d1, d2, d3, d4] }
  | _ => none }
def TapeTellsWrongFalsely : Prop := tapeTellsRow.holds Try.pinned (OpenSpec.ofChange tapeTellsWrong)

/-- 'apostillelaw13.TapeOnce': WHATEVER THE INPUT: true; the input reads as it did. -/
def tapeOnceSpec : ChangeSpec := { name := "tapeOnce", fn := fun _ => fun
  | [d1, d2, d3] => { results := [.lit (.bool true)], args := [d1, d2, d3] }
  | _ => none }
def tapeOnceRow : OpenClaim := { program := "ytiedkpfpaeecfaa", sum := "afaa89a38d19ff41a34401d9231702746ec98abb0e1dee48dcdfcb1806799ad0", func := "apostille/apostillelaw13.TapeOnce", spec := "tapeOnce", unfollowed := true, recurses := true, apart := false }
def TapeOnceSaid : Prop := tapeOnceRow.holds Try.pinned (OpenSpec.ofChange tapeOnceSpec)

/-- ITS FALSE NEIGHBOUR: 'it returns false'. Refute it at one input. -/
def tapeOnceWrong : ChangeSpec := { name := "tapeOnce", fn := fun _ => fun
  | [d1, d2, d3] => { results := [.lit (.bool false)], args := [d1, d2, d3] }
  | _ => none }
def TapeOnceWrongFalsely : Prop := tapeOnceRow.holds Try.pinned (OpenSpec.ofChange tapeOnceWrong)

/- THE SECOND FORM. 'bulk': how many values and letters a reading holds, each counted each time it is reached (what is shared counts as often as it is met; a slice's spare places count too). A statement '..UptoSaid' is the law's where the arguments, and the package variables that the reading takes, are together of bulk at most 1048576: NARROWER than '..Said'. Prove '..Said' where nothing that the law and all that it calls make is longer than what came in: it says more and counts as full. Else prove '..UptoSaid'. A law counts once. -/
mutual
def uptoBulk {H : Type} : DataW H → Nat
  | .lit (.string bytes) => bytes.length + 1
  | .lit _ => 1
  | .nil => 1
  | .ptr d => uptoBulk d + 1
  | .slice elems spare => uptoBulkAll elems + uptoBulkAll spare + 1
  | .agg parts => uptoBulkAll parts + 1
  | .iface _ d => uptoBulk d + 1
  | .map entries => uptoBulkEntries entries + 1
  | .held _ => 1
def uptoBulkAll {H : Type} : List (DataW H) → Nat
  | [] => 0
  | d :: r => uptoBulk d + uptoBulkAll r
def uptoBulkEntries {H : Type} : List (Lit × DataW H) → Nat
  | [] => 0
  | x :: r => uptoBulkEntry x + uptoBulkEntries r
def uptoBulkEntry {H : Type} : Lit × DataW H → Nat
  | (.string bytes, d) => bytes.length + uptoBulk d + 1
  | (_, d) => uptoBulk d + 1
 end
def uptoSmall : (H : Type) → List (DataW H) → Bool := fun _ ds => decide (uptoBulkAll ds ≤ 1048576)
def OpenSpec.upto (s : _root_.Go.ChangeSpec) : _root_.Go.OpenSpec := { _root_.Go.OpenSpec.ofChange s with cond := some uptoSmall }

/-- 'apostillelaw13.TapeTells', WHERE WHAT IT READS IS OF BULK AT MOST 1048576: true; the input reads as it did. -/
def tapeTellsUptoRow : OpenClaim := { program := "ytiedkpfpaeecfaa", sum := "afaa89a38d19ff41a34401d9231702746ec98abb0e1dee48dcdfcb1806799ad0", func := "apostille/apostillelaw13.TapeTells", spec := "tapeTells", unfollowed := true, recurses := true, apart := false, narrowed := true }
def TapeTellsUptoSaid : Prop := tapeTellsUptoRow.holds Try.pinned (OpenSpec.upto tapeTellsSpec)

/-- 'apostillelaw13.TapeOnce', WHERE WHAT IT READS IS OF BULK AT MOST 1048576: true; the input reads as it did. -/
def tapeOnceUptoRow : OpenClaim := { program := "ytiedkpfpaeecfaa", sum := "afaa89a38d19ff41a34401d9231702746ec98abb0e1dee48dcdfcb1806799ad0", func := "apostille/apostillelaw13.TapeOnce", spec := "tapeOnce", unfollowed := true, recurses := true, apart := false, narrowed := true }
def TapeOnceUptoSaid : Prop := tapeOnceUptoRow.holds Try.pinned (OpenSpec.upto tapeOnceSpec)

end Rows
end Go.Proofs.Ytiedkpfpaeecfaa
