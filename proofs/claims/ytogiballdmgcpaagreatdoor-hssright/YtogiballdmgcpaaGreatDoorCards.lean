/-
  DERIVED. GIVEN WITH THE SEED: THE CARDS: each row of YtogiballdmgcpaaGreatDoorRows.lean that lists a variable, with what it lists TIED to the program's text (the seventh form; the later family's looks); each row that meets fmt, with fmt's text TOLD by the authors' own Lean function (tested against real Go, not proved from fmt's source: count such statements apart). THE CARD IS WHAT COUNTS. Prove the row's statement (the work); the ties are given (YtogiballdmgcpaaGreatDoorTie.lean); close each card by the builder's one call (the guide's Derived/Test/ToyasCard.lean, 'card_holds'). Laid BY PROGRAM, IN A SANDBOX (cutbox-door.mjs). By AI agents, Wed Nov 11 2026. No macro, syntax, notation, axiom, sorry.
-/
import Derived.Test.YtogiballdmgcpaaGreatDoorRows
import GoSem.ClaimSeven
namespace Go.Proofs.YtogiballdmgcpaaGreatDoor
namespace Rows

/-- THE TIED CARD OF 'apostillelaw16.HssSigns'. -/
def hssSignsCard : Claim7 := { stood := { row := hssSignsRow, standIns := [], harness := (true, "0a640b7e697f3855e2ed015271d37461dde8d8faf02f84231c67d8fbae9741b5"), looks := false }, kinds := [], alts := [], laidByText := true, laidKinds := [.data, .data], laidTests := true, laidLooks := .later }
def HssSignsCardSaid : Prop := Claim7.holds Tryz.pinned (.plain (OpenSpec.ofChange hssSignsSpec)) hssSignsCard

/-- THE TIED CARD OF 'apostillelaw16.HssVerifies'. -/
def hssVerifiesCard : Claim7 := { stood := { row := hssVerifiesRow, standIns := [], harness := (true, "0a640b7e697f3855e2ed015271d37461dde8d8faf02f84231c67d8fbae9741b5"), looks := false }, kinds := [], alts := [], laidByText := true, laidKinds := [.data, .data], laidTests := true, laidLooks := .later }
def HssVerifiesCardSaid : Prop := Claim7.holds Tryz.pinned (.plain (OpenSpec.ofChange hssVerifiesSpec)) hssVerifiesCard

/-- THE TIED CARD OF 'apostillelaw16.HssRight'. -/
def hssRightCard : Claim7 := { stood := { row := hssRightRow, standIns := [], harness := (true, "0a640b7e697f3855e2ed015271d37461dde8d8faf02f84231c67d8fbae9741b5"), looks := false }, kinds := [], alts := [], laidByText := true, laidKinds := [.data, .data], laidTests := true, laidLooks := .later }
def HssRightCardSaid : Prop := Claim7.holds Tryz.pinned (.plain (OpenSpec.ofChange hssRightSpec)) hssRightCard

/-- THE SECOND FORM's CARD OF 'apostillelaw16.HssSigns'. -/
def hssSignsUptoCard : Claim7 := { stood := { row := hssSignsUptoRow, standIns := [], harness := (true, "0a640b7e697f3855e2ed015271d37461dde8d8faf02f84231c67d8fbae9741b5"), looks := false }, kinds := [], alts := [], laidByText := true, laidKinds := [.data, .data], laidTests := true, laidLooks := .later }
def HssSignsUptoCardSaid : Prop := Claim7.holds Tryz.pinned (.plain (OpenSpec.upto hssSignsSpec)) hssSignsUptoCard

/-- THE SECOND FORM's CARD OF 'apostillelaw16.HssVerifies'. -/
def hssVerifiesUptoCard : Claim7 := { stood := { row := hssVerifiesUptoRow, standIns := [], harness := (true, "0a640b7e697f3855e2ed015271d37461dde8d8faf02f84231c67d8fbae9741b5"), looks := false }, kinds := [], alts := [], laidByText := true, laidKinds := [.data, .data], laidTests := true, laidLooks := .later }
def HssVerifiesUptoCardSaid : Prop := Claim7.holds Tryz.pinned (.plain (OpenSpec.upto hssVerifiesSpec)) hssVerifiesUptoCard

/-- THE SECOND FORM's CARD OF 'apostillelaw16.HssRight'. -/
def hssRightUptoCard : Claim7 := { stood := { row := hssRightUptoRow, standIns := [], harness := (true, "0a640b7e697f3855e2ed015271d37461dde8d8faf02f84231c67d8fbae9741b5"), looks := false }, kinds := [], alts := [], laidByText := true, laidKinds := [.data, .data], laidTests := true, laidLooks := .later }
def HssRightUptoCardSaid : Prop := Claim7.holds Tryz.pinned (.plain (OpenSpec.upto hssRightSpec)) hssRightUptoCard
end Rows
end Go.Proofs.YtogiballdmgcpaaGreatDoor
