/-
  No cell of these rows narrows 'for every input' (looked for: loops, veiled, ifaces, maps, wideKeys, modest, calm, conditions, laid).
  DERIVED. THE GIVEN ROWS OF THIS SEAT. 4 by the template 'for every input the law returns true; each argument reads behind the call as it read before'; 0 by the template 'total and deterministic' (their statements: YtjeofkemfpdieaaTotals.lean).
  GIVEN WITH THE SEED: the statements are not yours to turn. If you find one false, say at which input.
  Laid BY PROGRAM, IN A SANDBOX (cutbox-rows.mjs): the forced cells as the released guide's own fill.sh prints them over the translation 2306cb61aa2030e0… (all of the seat's roots in one cut). By AI agents, Wed Nov 11 2026. No macro, syntax, notation, axiom, sorry.
-/
import Derived.Test.YtjeofkemfpdieaaChecked
import GoSem.Claim
import GoSem.ClaimJoined
import GoSem.ClaimMapViews
import Derived.JoinedTies
import Derived.KernelRfl
namespace Go.Proofs.Ytjeofkemfpdieaa
/- THE CELL 'sum', in the pinned program and in every row, IS THE sha256 OF THE DUMP (.gsa) THAT YtjeofkemfpdieaaProg.lean LOADS. Nothing in Lean hashes anything: it is a label: what it is worth is what the hold of that sum in a sandbox is worth. -/
noncomputable def Try.pinned : Pinned := { name := "ytjeofkemfpdieaa", sum := "2306cb61aa2030e0c9c7695fd993779e174368e6706556e8bb78c2303d123575", checked := Try.checked }
namespace Rows
def none {H : Type} : Left H := { results := [], args := [] }

/-- 'apostillelaw12.GcmTells': WHATEVER THE INPUT: true; the input reads as it did. -/
def gcmTellsSpec : ChangeSpec := { name := "gcmTells", fn := fun _ => fun
  | [d1, d2, d3] => { results := [.lit (.bool true)], args := [d1, d2, d3] }
  | _ => none }
def gcmTellsRow : OpenClaim := { program := "ytjeofkemfpdieaa", sum := "2306cb61aa2030e0c9c7695fd993779e174368e6706556e8bb78c2303d123575", func := "apostille/apostillelaw12.GcmTells", spec := "gcmTells", unfollowed := true, recurses := true, apart := false }
def GcmTellsSaid : Prop := gcmTellsRow.holds Try.pinned (OpenSpec.ofChange gcmTellsSpec)

/-- ITS FALSE NEIGHBOUR: 'it returns false'. Refute it at one input. -/
def gcmTellsWrong : ChangeSpec := { name := "gcmTells", fn := fun _ => fun
  | [d1, d2, d3] => { results := [.lit (.bool false)], args := [d1, d2, d3] }
  | _ => none }
def GcmTellsWrongFalsely : Prop := gcmTellsRow.holds Try.pinned (OpenSpec.ofChange gcmTellsWrong)

/-- 'apostillelaw12.GcmSeals': WHATEVER THE INPUT: true; the input reads as it did. -/
def gcmSealsSpec : ChangeSpec := { name := "gcmSeals", fn := fun _ => fun
  | [d1, d2, d3, d4] => { results := [.lit (.bool true)], args := [d1, d2, d3, d4] }
  | _ => none }
def gcmSealsRow : OpenClaim := { program := "ytjeofkemfpdieaa", sum := "2306cb61aa2030e0c9c7695fd993779e174368e6706556e8bb78c2303d123575", func := "apostille/apostillelaw12.GcmSeals", spec := "gcmSeals", unfollowed := true, recurses := true, apart := false }
def GcmSealsSaid : Prop := gcmSealsRow.holds Try.pinned (OpenSpec.ofChange gcmSealsSpec)

/-- ITS FALSE NEIGHBOUR: 'it returns false'. Refute it at one input. -/
def gcmSealsWrong : ChangeSpec := { name := "gcmSeals", fn := fun _ => fun
  | [d1, d2, d3, d4] => { results := [.lit (.bool false)], args := [d1, d2, d3, d4] }
  | _ => none }
def GcmSealsWrongFalsely : Prop := gcmSealsRow.holds Try.pinned (OpenSpec.ofChange gcmSealsWrong)

/-- 'apostillelaw12.GcmBack': WHATEVER THE INPUT: true; the input reads as it did. -/
def gcmBackSpec : ChangeSpec := { name := "gcmBack", fn := fun _ => fun
  | [d1, d2, d3, d4, d5] => { results := [.lit (.bool true)], args := [d1, d2, d3, d4, d5] }
  | _ => none }
def gcmBackRow : OpenClaim := { program := "ytjeofkemfpdieaa", sum := "2306cb61aa2030e0c9c7695fd993779e174368e6706556e8bb78c2303d123575", func := "apostille/apostillelaw12.GcmBack", spec := "gcmBack", unfollowed := true, recurses := true, apart := false }
def GcmBackSaid : Prop := gcmBackRow.holds Try.pinned (OpenSpec.ofChange gcmBackSpec)

/-- ITS FALSE NEIGHBOUR: 'it returns false'. Refute it at one input. -/
def gcmBackWrong : ChangeSpec := { name := "gcmBack", fn := fun _ => fun
  | [d1, d2, d3, d4, d5] => { results := [.lit (.bool false)], args := [d1, d2, d3, d4, d5] }
  | _ => none }
def GcmBackWrongFalsely : Prop := gcmBackRow.holds Try.pinned (OpenSpec.ofChange gcmBackWrong)

/-- 'apostillelaw12.GcmFields': WHATEVER THE INPUT: true; the input reads as it did. -/
def gcmFieldsSpec : ChangeSpec := { name := "gcmFields", fn := fun _ => fun
  | [d1, d2, d3, d4, d5] => { results := [.lit (.bool true)], args := [d1, d2, d3, d4, d5] }
  | _ => none }
def gcmFieldsRow : OpenClaim := { program := "ytjeofkemfpdieaa", sum := "2306cb61aa2030e0c9c7695fd993779e174368e6706556e8bb78c2303d123575", func := "apostille/apostillelaw12.GcmFields", spec := "gcmFields", unfollowed := true, recurses := true, apart := false }
def GcmFieldsSaid : Prop := gcmFieldsRow.holds Try.pinned (OpenSpec.ofChange gcmFieldsSpec)

/-- ITS FALSE NEIGHBOUR: 'it returns false'. Refute it at one input. -/
def gcmFieldsWrong : ChangeSpec := { name := "gcmFields", fn := fun _ => fun
  | [d1, d2, d3, d4, d5] => { results := [.lit (.bool false)], args := [d1, d2, d3, d4, d5] }
  | _ => none }
def GcmFieldsWrongFalsely : Prop := gcmFieldsRow.holds Try.pinned (OpenSpec.ofChange gcmFieldsWrong)

/- THE SECOND FORM. 'bulk': how many values and letters a reading holds, each counted each time it is reached (what is shared counts as often as it is met; a slice's spare places count too). A statement '..UptoSaid' is the law's where the arguments, and the package variables that the reading takes, are together of bulk at most 1048576: NARROWER than '..Said'. Prove '..Said' where nothing that the law and all that it calls make is longer than what came in: it says more and counts as full. Else prove '..UptoSaid'. A law counts once. -/
mutual
def uptoBulk {H : Type} : DataW H → Nat
  | .lit (.string bytes) => bytes.length + 1
  | .lit _ => 1
  | .nil => 1
  | .ptr d => uptoBulk d + 1
  | .slice elems spare => uptoBulkAll elems + uptoBulkAll spare + 1
  | .agg parts => uptoBulkAll parts + 1
  | .iface _ d => uptoBulk d + 1
  | .map entries => uptoBulkEntries entries + 1
  | .held _ => 1
def uptoBulkAll {H : Type} : List (DataW H) → Nat
  | [] => 0
  | d :: r => uptoBulk d + uptoBulkAll r
def uptoBulkEntries {H : Type} : List (Lit × DataW H) → Nat
  | [] => 0
  | x :: r => uptoBulkEntry x + uptoBulkEntries r
def uptoBulkEntry {H : Type} : Lit × DataW H → Nat
  | (.string bytes, d) => bytes.length + uptoBulk d + 1
  | (_, d) => uptoBulk d + 1
 end
def uptoSmall : (H : Type) → List (DataW H) → Bool := fun _ ds => decide (uptoBulkAll ds ≤ 1048576)
def OpenSpec.upto (s : _root_.Go.ChangeSpec) : _root_.Go.OpenSpec := { _root_.Go.OpenSpec.ofChange s with cond := some uptoSmall }

/-- 'apostillelaw12.GcmTells', WHERE WHAT IT READS IS OF BULK AT MOST 1048576: true; the input reads as it did. -/
def gcmTellsUptoRow : OpenClaim := { program := "ytjeofkemfpdieaa", sum := "2306cb61aa2030e0c9c7695fd993779e174368e6706556e8bb78c2303d123575", func := "apostille/apostillelaw12.GcmTells", spec := "gcmTells", unfollowed := true, recurses := true, apart := false, narrowed := true }
def GcmTellsUptoSaid : Prop := gcmTellsUptoRow.holds Try.pinned (OpenSpec.upto gcmTellsSpec)

/-- 'apostillelaw12.GcmSeals', WHERE WHAT IT READS IS OF BULK AT MOST 1048576: true; the input reads as it did. -/
def gcmSealsUptoRow : OpenClaim := { program := "ytjeofkemfpdieaa", sum := "2306cb61aa2030e0c9c7695fd993779e174368e6706556e8bb78c2303d123575", func := "apostille/apostillelaw12.GcmSeals", spec := "gcmSeals", unfollowed := true, recurses := true, apart := false, narrowed := true }
def GcmSealsUptoSaid : Prop := gcmSealsUptoRow.holds Try.pinned (OpenSpec.upto gcmSealsSpec)

/-- 'apostillelaw12.GcmBack', WHERE WHAT IT READS IS OF BULK AT MOST 1048576: true; the input reads as it did. -/
def gcmBackUptoRow : OpenClaim := { program := "ytjeofkemfpdieaa", sum := "2306cb61aa2030e0c9c7695fd993779e174368e6706556e8bb78c2303d123575", func := "apostille/apostillelaw12.GcmBack", spec := "gcmBack", unfollowed := true, recurses := true, apart := false, narrowed := true }
def GcmBackUptoSaid : Prop := gcmBackUptoRow.holds Try.pinned (OpenSpec.upto gcmBackSpec)

/-- 'apostillelaw12.GcmFields', WHERE WHAT IT READS IS OF BULK AT MOST 1048576: true; the input reads as it did. -/
def gcmFieldsUptoRow : OpenClaim := { program := "ytjeofkemfpdieaa", sum := "2306cb61aa2030e0c9c7695fd993779e174368e6706556e8bb78c2303d123575", func := "apostille/apostillelaw12.GcmFields", spec := "gcmFields", unfollowed := true, recurses := true, apart := false, narrowed := true }
def GcmFieldsUptoSaid : Prop := gcmFieldsUptoRow.holds Try.pinned (OpenSpec.upto gcmFieldsSpec)

end Rows
end Go.Proofs.Ytjeofkemfpdieaa
