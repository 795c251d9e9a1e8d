/-
  DERIVED. GIVEN WITH THE SEED: THE CARDS: each row of YtogiballdmgcpaaDoorRows.lean that lists a variable, with what it lists TIED to the program's text (the seventh form; the later family's looks); each row that meets fmt, with fmt's text TOLD by the authors' own Lean function (tested against real Go, not proved from fmt's source: count such statements apart). THE CARD IS WHAT COUNTS. Prove the row's statement (the work); the ties are given (YtogiballdmgcpaaDoorTie.lean); close each card by the builder's one call (the guide's Derived/Test/ToyasCard.lean, 'card_holds'). Laid BY PROGRAM, IN A SANDBOX (cutbox-door.mjs). By AI agents, Wed Nov 11 2026. No macro, syntax, notation, axiom, sorry.
-/
import Derived.Test.YtogiballdmgcpaaDoorRows
import GoSem.ClaimSeven
namespace Go.Proofs.YtogiballdmgcpaaDoor
namespace Rows

/-- THE TIED CARD OF 'apostillelaw16.HssTells'. -/
def hssTellsCard : Claim7 := { stood := { row := hssTellsRow, standIns := [], harness := (true, "4fb66fb80f73eec8f1866452493b3e6691afe7a0023ea6c3062878210be6d3dd"), looks := false }, kinds := [], alts := [], laidByText := true, laidKinds := [.data, .data], laidTests := true, laidLooks := .later }
def HssTellsCardSaid : Prop := Claim7.holds Tryd.pinned (.plain (OpenSpec.ofChange hssTellsSpec)) hssTellsCard

/-- THE TIED CARD OF 'apostillelaw16.HssOnce'. -/
def hssOnceCard : Claim7 := { stood := { row := hssOnceRow, standIns := [], harness := (true, "4fb66fb80f73eec8f1866452493b3e6691afe7a0023ea6c3062878210be6d3dd"), looks := false }, kinds := [], alts := [], laidByText := true, laidKinds := [.data, .data], laidTests := true, laidLooks := .later }
def HssOnceCardSaid : Prop := Claim7.holds Tryd.pinned (.plain (OpenSpec.ofChange hssOnceSpec)) hssOnceCard

/-- THE SECOND FORM's CARD OF 'apostillelaw16.HssTells'. -/
def hssTellsUptoCard : Claim7 := { stood := { row := hssTellsUptoRow, standIns := [], harness := (true, "4fb66fb80f73eec8f1866452493b3e6691afe7a0023ea6c3062878210be6d3dd"), looks := false }, kinds := [], alts := [], laidByText := true, laidKinds := [.data, .data], laidTests := true, laidLooks := .later }
def HssTellsUptoCardSaid : Prop := Claim7.holds Tryd.pinned (.plain (OpenSpec.upto hssTellsSpec)) hssTellsUptoCard

/-- THE SECOND FORM's CARD OF 'apostillelaw16.HssOnce'. -/
def hssOnceUptoCard : Claim7 := { stood := { row := hssOnceUptoRow, standIns := [], harness := (true, "4fb66fb80f73eec8f1866452493b3e6691afe7a0023ea6c3062878210be6d3dd"), looks := false }, kinds := [], alts := [], laidByText := true, laidKinds := [.data, .data], laidTests := true, laidLooks := .later }
def HssOnceUptoCardSaid : Prop := Claim7.holds Tryd.pinned (.plain (OpenSpec.upto hssOnceSpec)) hssOnceUptoCard
end Rows
end Go.Proofs.YtogiballdmgcpaaDoor
