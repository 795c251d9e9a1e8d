/-
  DERIVED. GIVEN WITH THE SEED: THE CARDS: each row of YtefndnbaifiboaaDoorRows.lean that lists a variable, with what it lists TIED to the program's text (the seventh form; the later family's looks); each row that meets fmt, with fmt's text TOLD by the authors' own Lean function (tested against real Go, not proved from fmt's source: count such statements apart). THE CARD IS WHAT COUNTS. Prove the row's statement (the work); the ties are given (YtefndnbaifiboaaDoorTie.lean); close each card by the builder's one call (the guide's Derived/Test/ToyasCard.lean, 'card_holds'). Laid BY PROGRAM, IN A SANDBOX (cutbox-door.mjs). By AI agents, Wed Nov 11 2026. No macro, syntax, notation, axiom, sorry.
-/
import Derived.Test.YtefndnbaifiboaaDoorRows
import GoSem.ClaimSeven
namespace Go.Proofs.YtefndnbaifiboaaDoor
namespace Rows

/-- THE TIED CARD OF 'apostillelaw15.LmsRight'. -/
def lmsRightCard : Claim7 := { stood := { row := lmsRightRow, standIns := [], harness := (true, "bc077288c88d0e9f8266f62b1121b201cce52b2a40d40413fadfbfec5ac03436"), looks := false }, kinds := [], alts := [], laidByText := true, laidKinds := [.data, .data], laidTests := true, laidLooks := .later }
def LmsRightCardSaid : Prop := Claim7.holds Tryd.pinned (.plain (OpenSpec.ofChange lmsRightSpec)) lmsRightCard

/-- THE SECOND FORM's CARD OF 'apostillelaw15.LmsRight'. -/
def lmsRightUptoCard : Claim7 := { stood := { row := lmsRightUptoRow, standIns := [], harness := (true, "bc077288c88d0e9f8266f62b1121b201cce52b2a40d40413fadfbfec5ac03436"), looks := false }, kinds := [], alts := [], laidByText := true, laidKinds := [.data, .data], laidTests := true, laidLooks := .later }
def LmsRightUptoCardSaid : Prop := Claim7.holds Tryd.pinned (.plain (OpenSpec.upto lmsRightSpec)) lmsRightUptoCard
end Rows
end Go.Proofs.YtefndnbaifiboaaDoor
