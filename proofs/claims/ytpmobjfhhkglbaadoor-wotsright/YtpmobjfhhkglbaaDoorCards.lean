/-
  DERIVED. GIVEN WITH THE SEED: THE CARDS: each row of YtpmobjfhhkglbaaDoorRows.lean that lists a variable, with what it lists TIED to the program's text (the seventh form; the later family's looks); each row that meets fmt, with fmt's text TOLD by the authors' own Lean function (tested against real Go, not proved from fmt's source: count such statements apart). THE CARD IS WHAT COUNTS. Prove the row's statement (the work); the ties are given (YtpmobjfhhkglbaaDoorTie.lean); close each card by the builder's one call (the guide's Derived/Test/ToyasCard.lean, 'card_holds'). Laid BY PROGRAM, IN A SANDBOX (cutbox-door.mjs). By AI agents, Wed Nov 11 2026. No macro, syntax, notation, axiom, sorry.
-/
import Derived.Test.YtpmobjfhhkglbaaDoorRows
import GoSem.ClaimSeven
namespace Go.Proofs.YtpmobjfhhkglbaaDoor
namespace Rows

/-- THE TIED CARD OF 'apostillelaw17.WotsRight'. -/
def wotsRightCard : Claim7 := { stood := { row := wotsRightRow, standIns := [], harness := (true, "5988774e25dd9c2cbb44babcc90669895ebfd9234e1b708a7f950d80d4544b81"), looks := false }, kinds := [], alts := [], laidByText := true, laidKinds := [.data, .data, .data], laidTests := true, laidLooks := .later }
def WotsRightCardSaid : Prop := Claim7.holds Tryd.pinned (.plain (OpenSpec.ofChange wotsRightSpec)) wotsRightCard

/-- THE SECOND FORM's CARD OF 'apostillelaw17.WotsRight'. -/
def wotsRightUptoCard : Claim7 := { stood := { row := wotsRightUptoRow, standIns := [], harness := (true, "5988774e25dd9c2cbb44babcc90669895ebfd9234e1b708a7f950d80d4544b81"), looks := false }, kinds := [], alts := [], laidByText := true, laidKinds := [.data, .data, .data], laidTests := true, laidLooks := .later }
def WotsRightUptoCardSaid : Prop := Claim7.holds Tryd.pinned (.plain (OpenSpec.upto wotsRightSpec)) wotsRightUptoCard
end Rows
end Go.Proofs.YtpmobjfhhkglbaaDoor
