/-
  DERIVED. GIVEN WITH THE SEED: THE CARDS: each row of YtejlmgbmfeacdaaDoorRows.lean that lists a variable, with what it lists TIED to the program's text (the seventh form; the later family's looks); each row that meets fmt, with fmt's text TOLD by the authors' own Lean function (tested against real Go, not proved from fmt's source: count such statements apart). THE CARD IS WHAT COUNTS. Prove the row's statement (the work); the ties are given (YtejlmgbmfeacdaaDoorTie.lean); close each card by the builder's one call (the guide's Derived/Test/ToyasCard.lean, 'card_holds'). Laid BY PROGRAM, IN A SANDBOX (cutbox-door.mjs). By AI agents, Wed Nov 11 2026. No macro, syntax, notation, axiom, sorry.
-/
import Derived.Test.YtejlmgbmfeacdaaDoorRows
import GoSem.ClaimSeven
namespace Go.Proofs.YtejlmgbmfeacdaaDoor
namespace Rows

/-- THE TIED CARD OF 'apostillelaw09.MacStarts'. -/
def macStartsCard : Claim7 := { stood := { row := macStartsRow, standIns := [], harness := (true, "2bd537503d5c81d8a3093f9b974b26323747bb7a2350a44fb18da1c195746c8a"), looks := false }, kinds := [], alts := [], laidByText := true, laidKinds := [.data, .data, .data], laidTests := true, laidLooks := .later }
def MacStartsCardSaid : Prop := Claim7.holds Tryd.pinned (.plain (OpenSpec.ofChange macStartsSpec)) macStartsCard

/-- THE SECOND FORM's CARD OF 'apostillelaw09.MacStarts'. -/
def macStartsUptoCard : Claim7 := { stood := { row := macStartsUptoRow, standIns := [], harness := (true, "2bd537503d5c81d8a3093f9b974b26323747bb7a2350a44fb18da1c195746c8a"), looks := false }, kinds := [], alts := [], laidByText := true, laidKinds := [.data, .data, .data], laidTests := true, laidLooks := .later }
def MacStartsUptoCardSaid : Prop := Claim7.holds Tryd.pinned (.plain (OpenSpec.upto macStartsSpec)) macStartsUptoCard
end Rows
end Go.Proofs.YtejlmgbmfeacdaaDoor
