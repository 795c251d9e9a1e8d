/-
  NARROWER THAN 'FOR EVERY INPUT', by the rows' own cells (each row's printed sentence says how): KeccakTells: laid · KeccakGoes: laid · KeccakParts: laid · KeccakSums: laid.
  DERIVED. THE GIVEN ROWS OF THIS SEAT. 4 by the template 'for every input the law returns true; each argument reads behind the call as it read before'; 0 by the template 'total and deterministic' (their statements: YtnbohjoakngkeaaDoorTotals.lean).
  GIVEN WITH THE SEED: the statements are not yours to turn. If you find one false, say at which input.
  Laid BY PROGRAM, IN A SANDBOX (cutbox-rows.mjs): the forced cells as the released guide's own fill.sh prints them over the translation b5d33bb1ee185358… (all of the seat's roots in one cut). By AI agents, Wed Nov 11 2026. No macro, syntax, notation, axiom, sorry.
-/
import Derived.Test.YtnbohjoakngkeaaDoorChecked
import GoSem.Claim
import GoSem.ClaimJoined
import GoSem.ClaimMapViews
import Derived.JoinedTies
import Derived.KernelRfl
namespace Go.Proofs.YtnbohjoakngkeaaDoor
/- THE CELL 'sum', in the pinned program and in every row, IS THE sha256 OF THE DUMP (.gsa) THAT YtnbohjoakngkeaaDoorProg.lean LOADS. Nothing in Lean hashes anything: it is a label: what it is worth is what the hold of that sum in a sandbox is worth. -/
noncomputable def Tryd.pinned : Pinned := { name := "ytnbohjoakngkeaadoor", sum := "b5d33bb1ee185358280ae7ae993f6aa030580bae35c4e8bdd11adfc094af18c6", checked := Tryd.checked }
namespace Rows
def none {H : Type} : Left H := { results := [], args := [] }

/- WHAT THE LISTED PACKAGE-LEVEL VARIABLES READ AS WHEN THE CALL BEGINS. Each datum BY PROGRAM (the guide's laid-datum.mjs) off the statement by which the dump's own 'gosem.cut.vars' lays the variable. In a bare row this is a premise. The card (YtnbohjoakngkeaaDoorCards.lean) ties it to the program's text. -/
def laid_apostille_keccak_constants {H : Type} : DataW H := .agg [.lit (.int .u64 1), .lit (.int .u64 32898), .lit (.int .u64 9223372036854808714), .lit (.int .u64 9223372039002292224), .lit (.int .u64 32907), .lit (.int .u64 2147483649), .lit (.int .u64 9223372039002292353), .lit (.int .u64 9223372036854808585), .lit (.int .u64 138), .lit (.int .u64 136), .lit (.int .u64 2147516425), .lit (.int .u64 2147483658), .lit (.int .u64 2147516555), .lit (.int .u64 9223372036854775947), .lit (.int .u64 9223372036854808713), .lit (.int .u64 9223372036854808579), .lit (.int .u64 9223372036854808578), .lit (.int .u64 9223372036854775936), .lit (.int .u64 32778), .lit (.int .u64 9223372039002259466), .lit (.int .u64 9223372039002292353), .lit (.int .u64 9223372036854808704), .lit (.int .u64 2147483649), .lit (.int .u64 9223372039002292232)]

/-- 'apostillelaw08.KeccakTells': WHATEVER THE INPUT: true; the input reads as it did. -/
def keccakTellsSpec : ChangeSpec := { name := "keccakTells", fn := fun _ => fun
  | [d1, d2, d3, d4, d5] => { results := [.lit (.bool true)], args := [d1, d2, d3, d4, d5] }
  | _ => none }
def keccakTellsRow : OpenClaim := { program := "ytnbohjoakngkeaadoor", sum := "b5d33bb1ee185358280ae7ae993f6aa030580bae35c4e8bdd11adfc094af18c6", func := "apostille/apostillelaw08.KeccakTells", spec := "keccakTells", named := ["apostille/keccak.constants"], apart := false, laid := [("apostille/keccak.constants", laid_apostille_keccak_constants)] }
def KeccakTellsSaid : Prop := keccakTellsRow.holds Tryd.pinned (OpenSpec.ofChange keccakTellsSpec)

/-- ITS FALSE NEIGHBOUR: 'it returns false'. Refute it at one input. -/
def keccakTellsWrong : ChangeSpec := { name := "keccakTells", fn := fun _ => fun
  | [d1, d2, d3, d4, d5] => { results := [.lit (.bool false)], args := [d1, d2, d3, d4, d5] }
  | _ => none }
def KeccakTellsWrongFalsely : Prop := keccakTellsRow.holds Tryd.pinned (OpenSpec.ofChange keccakTellsWrong)

/-- 'apostillelaw08.KeccakGoes': WHATEVER THE INPUT: true; the input reads as it did. -/
def keccakGoesSpec : ChangeSpec := { name := "keccakGoes", fn := fun _ => fun
  | [d1, d2, d3] => { results := [.lit (.bool true)], args := [d1, d2, d3] }
  | _ => none }
def keccakGoesRow : OpenClaim := { program := "ytnbohjoakngkeaadoor", sum := "b5d33bb1ee185358280ae7ae993f6aa030580bae35c4e8bdd11adfc094af18c6", func := "apostille/apostillelaw08.KeccakGoes", spec := "keccakGoes", named := ["apostille/keccak.constants"], apart := false, laid := [("apostille/keccak.constants", laid_apostille_keccak_constants)] }
def KeccakGoesSaid : Prop := keccakGoesRow.holds Tryd.pinned (OpenSpec.ofChange keccakGoesSpec)

/-- ITS FALSE NEIGHBOUR: 'it returns false'. Refute it at one input. -/
def keccakGoesWrong : ChangeSpec := { name := "keccakGoes", fn := fun _ => fun
  | [d1, d2, d3] => { results := [.lit (.bool false)], args := [d1, d2, d3] }
  | _ => none }
def KeccakGoesWrongFalsely : Prop := keccakGoesRow.holds Tryd.pinned (OpenSpec.ofChange keccakGoesWrong)

/-- 'apostillelaw08.KeccakParts': WHATEVER THE INPUT: true; the input reads as it did. -/
def keccakPartsSpec : ChangeSpec := { name := "keccakParts", fn := fun _ => fun
  | [d1, d2, d3, d4, d5] => { results := [.lit (.bool true)], args := [d1, d2, d3, d4, d5] }
  | _ => none }
def keccakPartsRow : OpenClaim := { program := "ytnbohjoakngkeaadoor", sum := "b5d33bb1ee185358280ae7ae993f6aa030580bae35c4e8bdd11adfc094af18c6", func := "apostille/apostillelaw08.KeccakParts", spec := "keccakParts", named := ["apostille/keccak.constants"], apart := false, laid := [("apostille/keccak.constants", laid_apostille_keccak_constants)] }
def KeccakPartsSaid : Prop := keccakPartsRow.holds Tryd.pinned (OpenSpec.ofChange keccakPartsSpec)

/-- ITS FALSE NEIGHBOUR: 'it returns false'. Refute it at one input. -/
def keccakPartsWrong : ChangeSpec := { name := "keccakParts", fn := fun _ => fun
  | [d1, d2, d3, d4, d5] => { results := [.lit (.bool false)], args := [d1, d2, d3, d4, d5] }
  | _ => none }
def KeccakPartsWrongFalsely : Prop := keccakPartsRow.holds Tryd.pinned (OpenSpec.ofChange keccakPartsWrong)

/-- 'apostillelaw08.KeccakSums': WHATEVER THE INPUT: true; the input reads as it did. -/
def keccakSumsSpec : ChangeSpec := { name := "keccakSums", fn := fun _ => fun
  | [d1, d2, d3, d4] => { results := [.lit (.bool true)], args := [d1, d2, d3, d4] }
  | _ => none }
def keccakSumsRow : OpenClaim := { program := "ytnbohjoakngkeaadoor", sum := "b5d33bb1ee185358280ae7ae993f6aa030580bae35c4e8bdd11adfc094af18c6", func := "apostille/apostillelaw08.KeccakSums", spec := "keccakSums", named := ["apostille/keccak.constants"], apart := false, laid := [("apostille/keccak.constants", laid_apostille_keccak_constants)] }
def KeccakSumsSaid : Prop := keccakSumsRow.holds Tryd.pinned (OpenSpec.ofChange keccakSumsSpec)

/-- ITS FALSE NEIGHBOUR: 'it returns false'. Refute it at one input. -/
def keccakSumsWrong : ChangeSpec := { name := "keccakSums", fn := fun _ => fun
  | [d1, d2, d3, d4] => { results := [.lit (.bool false)], args := [d1, d2, d3, d4] }
  | _ => none }
def KeccakSumsWrongFalsely : Prop := keccakSumsRow.holds Tryd.pinned (OpenSpec.ofChange keccakSumsWrong)

/- THE SECOND FORM. 'bulk': how many values and letters a reading holds, each counted each time it is reached (what is shared counts as often as it is met; a slice's spare places count too). A statement '..UptoSaid' is the law's where the arguments, and the package variables that the reading takes, are together of bulk at most 1048576: NARROWER than '..Said'. Prove '..Said' where nothing that the law and all that it calls make is longer than what came in: it says more and counts as full. Else prove '..UptoSaid'. A law counts once. -/
mutual
def uptoBulk {H : Type} : DataW H → Nat
  | .lit (.string bytes) => bytes.length + 1
  | .lit _ => 1
  | .nil => 1
  | .ptr d => uptoBulk d + 1
  | .slice elems spare => uptoBulkAll elems + uptoBulkAll spare + 1
  | .agg parts => uptoBulkAll parts + 1
  | .iface _ d => uptoBulk d + 1
  | .map entries => uptoBulkEntries entries + 1
  | .held _ => 1
def uptoBulkAll {H : Type} : List (DataW H) → Nat
  | [] => 0
  | d :: r => uptoBulk d + uptoBulkAll r
def uptoBulkEntries {H : Type} : List (Lit × DataW H) → Nat
  | [] => 0
  | x :: r => uptoBulkEntry x + uptoBulkEntries r
def uptoBulkEntry {H : Type} : Lit × DataW H → Nat
  | (.string bytes, d) => bytes.length + uptoBulk d + 1
  | (_, d) => uptoBulk d + 1
 end
def uptoSmall : (H : Type) → List (DataW H) → Bool := fun _ ds => decide (uptoBulkAll ds ≤ 1048576)
def OpenSpec.upto (s : _root_.Go.ChangeSpec) : _root_.Go.OpenSpec := { _root_.Go.OpenSpec.ofChange s with cond := some uptoSmall }

/-- 'apostillelaw08.KeccakTells', WHERE WHAT IT READS IS OF BULK AT MOST 1048576: true; the input reads as it did. -/
def keccakTellsUptoRow : OpenClaim := { program := "ytnbohjoakngkeaadoor", sum := "b5d33bb1ee185358280ae7ae993f6aa030580bae35c4e8bdd11adfc094af18c6", func := "apostille/apostillelaw08.KeccakTells", spec := "keccakTells", named := ["apostille/keccak.constants"], apart := false, laid := [("apostille/keccak.constants", laid_apostille_keccak_constants)], narrowed := true }
def KeccakTellsUptoSaid : Prop := keccakTellsUptoRow.holds Tryd.pinned (OpenSpec.upto keccakTellsSpec)

/-- 'apostillelaw08.KeccakGoes', WHERE WHAT IT READS IS OF BULK AT MOST 1048576: true; the input reads as it did. -/
def keccakGoesUptoRow : OpenClaim := { program := "ytnbohjoakngkeaadoor", sum := "b5d33bb1ee185358280ae7ae993f6aa030580bae35c4e8bdd11adfc094af18c6", func := "apostille/apostillelaw08.KeccakGoes", spec := "keccakGoes", named := ["apostille/keccak.constants"], apart := false, laid := [("apostille/keccak.constants", laid_apostille_keccak_constants)], narrowed := true }
def KeccakGoesUptoSaid : Prop := keccakGoesUptoRow.holds Tryd.pinned (OpenSpec.upto keccakGoesSpec)

/-- 'apostillelaw08.KeccakParts', WHERE WHAT IT READS IS OF BULK AT MOST 1048576: true; the input reads as it did. -/
def keccakPartsUptoRow : OpenClaim := { program := "ytnbohjoakngkeaadoor", sum := "b5d33bb1ee185358280ae7ae993f6aa030580bae35c4e8bdd11adfc094af18c6", func := "apostille/apostillelaw08.KeccakParts", spec := "keccakParts", named := ["apostille/keccak.constants"], apart := false, laid := [("apostille/keccak.constants", laid_apostille_keccak_constants)], narrowed := true }
def KeccakPartsUptoSaid : Prop := keccakPartsUptoRow.holds Tryd.pinned (OpenSpec.upto keccakPartsSpec)

/-- 'apostillelaw08.KeccakSums', WHERE WHAT IT READS IS OF BULK AT MOST 1048576: true; the input reads as it did. -/
def keccakSumsUptoRow : OpenClaim := { program := "ytnbohjoakngkeaadoor", sum := "b5d33bb1ee185358280ae7ae993f6aa030580bae35c4e8bdd11adfc094af18c6", func := "apostille/apostillelaw08.KeccakSums", spec := "keccakSums", named := ["apostille/keccak.constants"], apart := false, laid := [("apostille/keccak.constants", laid_apostille_keccak_constants)], narrowed := true }
def KeccakSumsUptoSaid : Prop := keccakSumsUptoRow.holds Tryd.pinned (OpenSpec.upto keccakSumsSpec)

end Rows
end Go.Proofs.YtnbohjoakngkeaaDoor
