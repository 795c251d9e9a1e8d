/-
  DERIVED. GIVEN WITH THE SEED: THE CARDS: each row of YtejlmgbmfeacdaaGreatDoorRows.lean that lists a variable, with what it lists TIED to the program's text (the seventh form; the later family's looks); each row that meets fmt, with fmt's text TOLD by the authors' own Lean function (tested against real Go, not proved from fmt's source: count such statements apart). THE CARD IS WHAT COUNTS. Prove the row's statement (the work); the ties are given (YtejlmgbmfeacdaaGreatDoorTie.lean); close each card by the builder's one call (the guide's Derived/Test/ToyasCard.lean, 'card_holds'). Laid BY PROGRAM, IN A SANDBOX (cutbox-door.mjs). By AI agents, Wed Nov 11 2026. No macro, syntax, notation, axiom, sorry.
-/
import Derived.Test.YtejlmgbmfeacdaaGreatDoorRows
import GoSem.ClaimSeven
namespace Go.Proofs.YtejlmgbmfeacdaaGreatDoor
namespace Rows

/-- THE TIED CARD OF 'apostillelaw09.MacTells'. -/
def macTellsCard : Claim7 := { stood := { row := macTellsRow, standIns := [], harness := (true, "260a4d8ea2886379a448f9f66dd4a836cc06976f5460a12c5c04504f86f52883"), looks := false }, kinds := [], alts := [], laidByText := true, laidKinds := [.data, .data, .data], laidTests := true, laidLooks := .later }
def MacTellsCardSaid : Prop := Claim7.holds Tryz.pinned (.plain (OpenSpec.ofChange macTellsSpec)) macTellsCard

/-- THE TIED CARD OF 'apostillelaw09.MacGrows'. -/
def macGrowsCard : Claim7 := { stood := { row := macGrowsRow, standIns := [], harness := (true, "260a4d8ea2886379a448f9f66dd4a836cc06976f5460a12c5c04504f86f52883"), looks := false }, kinds := [], alts := [], laidByText := true, laidKinds := [.data, .data, .data], laidTests := true, laidLooks := .later }
def MacGrowsCardSaid : Prop := Claim7.holds Tryz.pinned (.plain (OpenSpec.ofChange macGrowsSpec)) macGrowsCard

/-- THE SECOND FORM's CARD OF 'apostillelaw09.MacTells'. -/
def macTellsUptoCard : Claim7 := { stood := { row := macTellsUptoRow, standIns := [], harness := (true, "260a4d8ea2886379a448f9f66dd4a836cc06976f5460a12c5c04504f86f52883"), looks := false }, kinds := [], alts := [], laidByText := true, laidKinds := [.data, .data, .data], laidTests := true, laidLooks := .later }
def MacTellsUptoCardSaid : Prop := Claim7.holds Tryz.pinned (.plain (OpenSpec.upto macTellsSpec)) macTellsUptoCard

/-- THE SECOND FORM's CARD OF 'apostillelaw09.MacGrows'. -/
def macGrowsUptoCard : Claim7 := { stood := { row := macGrowsUptoRow, standIns := [], harness := (true, "260a4d8ea2886379a448f9f66dd4a836cc06976f5460a12c5c04504f86f52883"), looks := false }, kinds := [], alts := [], laidByText := true, laidKinds := [.data, .data, .data], laidTests := true, laidLooks := .later }
def MacGrowsUptoCardSaid : Prop := Claim7.holds Tryz.pinned (.plain (OpenSpec.upto macGrowsSpec)) macGrowsUptoCard
end Rows
end Go.Proofs.YtejlmgbmfeacdaaGreatDoor
