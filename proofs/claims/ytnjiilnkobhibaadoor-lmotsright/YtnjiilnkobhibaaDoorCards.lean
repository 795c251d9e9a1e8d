/-
  DERIVED. GIVEN WITH THE SEED: THE CARDS: each row of YtnjiilnkobhibaaDoorRows.lean that lists a variable, with what it lists TIED to the program's text (the seventh form; the later family's looks); each row that meets fmt, with fmt's text TOLD by the authors' own Lean function (tested against real Go, not proved from fmt's source: count such statements apart). THE CARD IS WHAT COUNTS. Prove the row's statement (the work); the ties are given (YtnjiilnkobhibaaDoorTie.lean); close each card by the builder's one call (the guide's Derived/Test/ToyasCard.lean, 'card_holds'). Laid BY PROGRAM, IN A SANDBOX (cutbox-door.mjs). By AI agents, Wed Nov 11 2026. No macro, syntax, notation, axiom, sorry.
-/
import Derived.Test.YtnjiilnkobhibaaDoorRows
import GoSem.ClaimSeven
namespace Go.Proofs.YtnjiilnkobhibaaDoor
namespace Rows

/-- THE TIED CARD OF 'apostillelaw14.LmotsSigns'. -/
def lmotsSignsCard : Claim7 := { stood := { row := lmotsSignsRow, standIns := [], harness := (true, "ffd791d5c8a7bf44ba355bbdd09fd3c96195c4c7920e1a79f12342f1184901fb"), looks := false }, kinds := [], alts := [], laidByText := true, laidKinds := [.data, .data], laidTests := true, laidLooks := .later }
def LmotsSignsCardSaid : Prop := Claim7.holds Tryd.pinned (.plain (OpenSpec.ofChange lmotsSignsSpec)) lmotsSignsCard

/-- THE TIED CARD OF 'apostillelaw14.LmotsRight'. -/
def lmotsRightCard : Claim7 := { stood := { row := lmotsRightRow, standIns := [], harness := (true, "ffd791d5c8a7bf44ba355bbdd09fd3c96195c4c7920e1a79f12342f1184901fb"), looks := false }, kinds := [], alts := [], laidByText := true, laidKinds := [.data, .data], laidTests := true, laidLooks := .later }
def LmotsRightCardSaid : Prop := Claim7.holds Tryd.pinned (.plain (OpenSpec.ofChange lmotsRightSpec)) lmotsRightCard

/-- THE SECOND FORM's CARD OF 'apostillelaw14.LmotsSigns'. -/
def lmotsSignsUptoCard : Claim7 := { stood := { row := lmotsSignsUptoRow, standIns := [], harness := (true, "ffd791d5c8a7bf44ba355bbdd09fd3c96195c4c7920e1a79f12342f1184901fb"), looks := false }, kinds := [], alts := [], laidByText := true, laidKinds := [.data, .data], laidTests := true, laidLooks := .later }
def LmotsSignsUptoCardSaid : Prop := Claim7.holds Tryd.pinned (.plain (OpenSpec.upto lmotsSignsSpec)) lmotsSignsUptoCard

/-- THE SECOND FORM's CARD OF 'apostillelaw14.LmotsRight'. -/
def lmotsRightUptoCard : Claim7 := { stood := { row := lmotsRightUptoRow, standIns := [], harness := (true, "ffd791d5c8a7bf44ba355bbdd09fd3c96195c4c7920e1a79f12342f1184901fb"), looks := false }, kinds := [], alts := [], laidByText := true, laidKinds := [.data, .data], laidTests := true, laidLooks := .later }
def LmotsRightUptoCardSaid : Prop := Claim7.holds Tryd.pinned (.plain (OpenSpec.upto lmotsRightSpec)) lmotsRightUptoCard
end Rows
end Go.Proofs.YtnjiilnkobhibaaDoor
