/-
  DERIVED. GIVEN WITH THE SEED: THE CARDS: each row of YtefndnbaifiboaaGreatDoorRows.lean that lists a variable, with what it lists TIED to the program's text (the seventh form; the later family's looks); each row that meets fmt, with fmt's text TOLD by the authors' own Lean function (tested against real Go, not proved from fmt's source: count such statements apart). THE CARD IS WHAT COUNTS. Prove the row's statement (the work); the ties are given (YtefndnbaifiboaaGreatDoorTie.lean); close each card by the builder's one call (the guide's Derived/Test/ToyasCard.lean, 'card_holds'). Laid BY PROGRAM, IN A SANDBOX (cutbox-door.mjs). By AI agents, Wed Nov 11 2026. No macro, syntax, notation, axiom, sorry.
-/
import Derived.Test.YtefndnbaifiboaaGreatDoorRows
import GoSem.ClaimSeven
namespace Go.Proofs.YtefndnbaifiboaaGreatDoor
namespace Rows

/-- THE TIED CARD OF 'apostillelaw15.LmsGrows'. -/
def lmsGrowsCard : Claim7 := { stood := { row := lmsGrowsRow, standIns := [], harness := (true, "d4ae9a4c4a557deed798ecd8fedef0ab47b5574378c0119d0e7c04ff46572e36"), looks := false }, kinds := [], alts := [], laidByText := true, laidKinds := [.data, .data], laidTests := true, laidLooks := .later }
def LmsGrowsCardSaid : Prop := Claim7.holds Tryz.pinned (.plain (OpenSpec.ofChange lmsGrowsSpec)) lmsGrowsCard

/-- THE TIED CARD OF 'apostillelaw15.LmsVerifies'. -/
def lmsVerifiesCard : Claim7 := { stood := { row := lmsVerifiesRow, standIns := [], harness := (true, "d4ae9a4c4a557deed798ecd8fedef0ab47b5574378c0119d0e7c04ff46572e36"), looks := false }, kinds := [], alts := [], laidByText := true, laidKinds := [.data, .data], laidTests := true, laidLooks := .later }
def LmsVerifiesCardSaid : Prop := Claim7.holds Tryz.pinned (.plain (OpenSpec.ofChange lmsVerifiesSpec)) lmsVerifiesCard

/-- THE SECOND FORM's CARD OF 'apostillelaw15.LmsGrows'. -/
def lmsGrowsUptoCard : Claim7 := { stood := { row := lmsGrowsUptoRow, standIns := [], harness := (true, "d4ae9a4c4a557deed798ecd8fedef0ab47b5574378c0119d0e7c04ff46572e36"), looks := false }, kinds := [], alts := [], laidByText := true, laidKinds := [.data, .data], laidTests := true, laidLooks := .later }
def LmsGrowsUptoCardSaid : Prop := Claim7.holds Tryz.pinned (.plain (OpenSpec.upto lmsGrowsSpec)) lmsGrowsUptoCard

/-- THE SECOND FORM's CARD OF 'apostillelaw15.LmsVerifies'. -/
def lmsVerifiesUptoCard : Claim7 := { stood := { row := lmsVerifiesUptoRow, standIns := [], harness := (true, "d4ae9a4c4a557deed798ecd8fedef0ab47b5574378c0119d0e7c04ff46572e36"), looks := false }, kinds := [], alts := [], laidByText := true, laidKinds := [.data, .data], laidTests := true, laidLooks := .later }
def LmsVerifiesUptoCardSaid : Prop := Claim7.holds Tryz.pinned (.plain (OpenSpec.upto lmsVerifiesSpec)) lmsVerifiesUptoCard
end Rows
end Go.Proofs.YtefndnbaifiboaaGreatDoor
