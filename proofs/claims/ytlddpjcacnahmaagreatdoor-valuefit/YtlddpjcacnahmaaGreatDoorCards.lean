/-
  DERIVED. GIVEN WITH THE SEED: THE CARDS: each row of YtlddpjcacnahmaaGreatDoorRows.lean that lists a variable, with what it lists TIED to the program's text (the seventh form; the later family's looks); each row that meets fmt, with fmt's text TOLD by the authors' own Lean function (tested against real Go, not proved from fmt's source: count such statements apart). THE CARD IS WHAT COUNTS. Prove the row's statement (the work); the ties are given (YtlddpjcacnahmaaGreatDoorTie.lean); close each card by the builder's one call (the guide's Derived/Test/ToyasCard.lean, 'card_holds'). Laid BY PROGRAM, IN A SANDBOX (cutbox-door.mjs). By AI agents, Wed Nov 11 2026. No macro, syntax, notation, axiom, sorry.
-/
import Derived.Test.YtlddpjcacnahmaaGreatDoorRows
import GoSem.ClaimSeven
namespace Go.Proofs.YtlddpjcacnahmaaGreatDoor
namespace Rows

/-- THE TIED CARD OF 'apostillelaw06.ValueMakes'. -/
def valueMakesCard : Claim7 := { stood := { row := valueMakesRow, standIns := [], harness := (true, "c0e721392a7b2804a856d21c0cd6dc3450823c10bf520f062ab1d682ea16459c"), looks := false }, kinds := [], alts := [], laidByText := true, laidKinds := [.data, .pinned], laidTests := true, laidLooks := .later }
def ValueMakesCardSaid : Prop := Claim7.holds Tryz.pinned (.plain (OpenSpec.ofChange valueMakesSpec)) valueMakesCard

/-- THE TIED CARD OF 'apostillelaw06.ValueTells'. -/
def valueTellsCard : Claim7 := { stood := { row := valueTellsRow, standIns := [], harness := (true, "c0e721392a7b2804a856d21c0cd6dc3450823c10bf520f062ab1d682ea16459c"), looks := false }, kinds := [], alts := [], laidByText := true, laidKinds := [.data, .pinned], laidTests := true, laidLooks := .later }
def ValueTellsCardSaid : Prop := Claim7.holds Tryz.pinned (.plain (OpenSpec.ofChange valueTellsSpec)) valueTellsCard

/-- THE TIED CARD OF 'apostillelaw06.ValueParts'. -/
def valuePartsCard : Claim7 := { stood := { row := valuePartsRow, standIns := [], harness := (true, "c0e721392a7b2804a856d21c0cd6dc3450823c10bf520f062ab1d682ea16459c"), looks := false }, kinds := [], alts := [], laidByText := true, laidKinds := [.data, .pinned], laidTests := true, laidLooks := .later }
def ValuePartsCardSaid : Prop := Claim7.holds Tryz.pinned (.plain (OpenSpec.ofChange valuePartsSpec)) valuePartsCard

/-- THE TIED CARD OF 'apostillelaw06.ValueBack'. -/
def valueBackCard : Claim7 := { stood := { row := valueBackRow, standIns := [], harness := (true, "c0e721392a7b2804a856d21c0cd6dc3450823c10bf520f062ab1d682ea16459c"), looks := false }, kinds := [], alts := [], laidByText := true, laidKinds := [.data, .pinned], laidTests := true, laidLooks := .later }
def ValueBackCardSaid : Prop := Claim7.holds Tryz.pinned (.plain (OpenSpec.ofChange valueBackSpec)) valueBackCard

/-- THE TIED CARD OF 'apostillelaw06.ValueFit'. -/
def valueFitCard : Claim7 := { stood := { row := valueFitRow, standIns := [], harness := (true, "c0e721392a7b2804a856d21c0cd6dc3450823c10bf520f062ab1d682ea16459c"), looks := false }, kinds := [], alts := [], laidByText := true, laidKinds := [.data, .pinned], laidTests := true, laidLooks := .later }
def ValueFitCardSaid : Prop := Claim7.holds Tryz.pinned (.plain (OpenSpec.ofChange valueFitSpec)) valueFitCard

/-- THE SECOND FORM's CARD OF 'apostillelaw06.ValueMakes'. -/
def valueMakesUptoCard : Claim7 := { stood := { row := valueMakesUptoRow, standIns := [], harness := (true, "c0e721392a7b2804a856d21c0cd6dc3450823c10bf520f062ab1d682ea16459c"), looks := false }, kinds := [], alts := [], laidByText := true, laidKinds := [.data, .pinned], laidTests := true, laidLooks := .later }
def ValueMakesUptoCardSaid : Prop := Claim7.holds Tryz.pinned (.plain (OpenSpec.upto valueMakesSpec)) valueMakesUptoCard

/-- THE SECOND FORM's CARD OF 'apostillelaw06.ValueTells'. -/
def valueTellsUptoCard : Claim7 := { stood := { row := valueTellsUptoRow, standIns := [], harness := (true, "c0e721392a7b2804a856d21c0cd6dc3450823c10bf520f062ab1d682ea16459c"), looks := false }, kinds := [], alts := [], laidByText := true, laidKinds := [.data, .pinned], laidTests := true, laidLooks := .later }
def ValueTellsUptoCardSaid : Prop := Claim7.holds Tryz.pinned (.plain (OpenSpec.upto valueTellsSpec)) valueTellsUptoCard

/-- THE SECOND FORM's CARD OF 'apostillelaw06.ValueParts'. -/
def valuePartsUptoCard : Claim7 := { stood := { row := valuePartsUptoRow, standIns := [], harness := (true, "c0e721392a7b2804a856d21c0cd6dc3450823c10bf520f062ab1d682ea16459c"), looks := false }, kinds := [], alts := [], laidByText := true, laidKinds := [.data, .pinned], laidTests := true, laidLooks := .later }
def ValuePartsUptoCardSaid : Prop := Claim7.holds Tryz.pinned (.plain (OpenSpec.upto valuePartsSpec)) valuePartsUptoCard

/-- THE SECOND FORM's CARD OF 'apostillelaw06.ValueBack'. -/
def valueBackUptoCard : Claim7 := { stood := { row := valueBackUptoRow, standIns := [], harness := (true, "c0e721392a7b2804a856d21c0cd6dc3450823c10bf520f062ab1d682ea16459c"), looks := false }, kinds := [], alts := [], laidByText := true, laidKinds := [.data, .pinned], laidTests := true, laidLooks := .later }
def ValueBackUptoCardSaid : Prop := Claim7.holds Tryz.pinned (.plain (OpenSpec.upto valueBackSpec)) valueBackUptoCard

/-- THE SECOND FORM's CARD OF 'apostillelaw06.ValueFit'. -/
def valueFitUptoCard : Claim7 := { stood := { row := valueFitUptoRow, standIns := [], harness := (true, "c0e721392a7b2804a856d21c0cd6dc3450823c10bf520f062ab1d682ea16459c"), looks := false }, kinds := [], alts := [], laidByText := true, laidKinds := [.data, .pinned], laidTests := true, laidLooks := .later }
def ValueFitUptoCardSaid : Prop := Claim7.holds Tryz.pinned (.plain (OpenSpec.upto valueFitSpec)) valueFitUptoCard
end Rows
end Go.Proofs.YtlddpjcacnahmaaGreatDoor
