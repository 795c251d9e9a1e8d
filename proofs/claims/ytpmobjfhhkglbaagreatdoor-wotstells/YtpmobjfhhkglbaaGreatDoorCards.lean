/-
  DERIVED. GIVEN WITH THE SEED: THE CARDS: each row of YtpmobjfhhkglbaaGreatDoorRows.lean that lists a variable, with what it lists TIED to the program's text (the seventh form; the later family's looks); each row that meets fmt, with fmt's text TOLD by the authors' own Lean function (tested against real Go, not proved from fmt's source: count such statements apart). THE CARD IS WHAT COUNTS. Prove the row's statement (the work); the ties are given (YtpmobjfhhkglbaaGreatDoorTie.lean); close each card by the builder's one call (the guide's Derived/Test/ToyasCard.lean, 'card_holds'). Laid BY PROGRAM, IN A SANDBOX (cutbox-door.mjs). By AI agents, Wed Nov 11 2026. No macro, syntax, notation, axiom, sorry.
-/
import Derived.Test.YtpmobjfhhkglbaaGreatDoorRows
import GoSem.ClaimSeven
namespace Go.Proofs.YtpmobjfhhkglbaaGreatDoor
namespace Rows

/-- THE TIED CARD OF 'apostillelaw17.WotsTells'. -/
def wotsTellsCard : Claim7 := { stood := { row := wotsTellsRow, standIns := [], harness := (true, "16aed8cb882fb6080e445a2bbb4fb357bad450c1f5d6c739bc9acc22d19554f1"), looks := false }, kinds := [], alts := [], laidByText := true, laidKinds := [.data, .data, .data], laidTests := true, laidLooks := .later }
def WotsTellsCardSaid : Prop := Claim7.holds Tryz.pinned (.plain (OpenSpec.ofChange wotsTellsSpec)) wotsTellsCard

/-- THE TIED CARD OF 'apostillelaw17.WotsSigns'. -/
def wotsSignsCard : Claim7 := { stood := { row := wotsSignsRow, standIns := [], harness := (true, "16aed8cb882fb6080e445a2bbb4fb357bad450c1f5d6c739bc9acc22d19554f1"), looks := false }, kinds := [], alts := [], laidByText := true, laidKinds := [.data, .data, .data], laidTests := true, laidLooks := .later }
def WotsSignsCardSaid : Prop := Claim7.holds Tryz.pinned (.plain (OpenSpec.ofChange wotsSignsSpec)) wotsSignsCard

/-- THE SECOND FORM's CARD OF 'apostillelaw17.WotsTells'. -/
def wotsTellsUptoCard : Claim7 := { stood := { row := wotsTellsUptoRow, standIns := [], harness := (true, "16aed8cb882fb6080e445a2bbb4fb357bad450c1f5d6c739bc9acc22d19554f1"), looks := false }, kinds := [], alts := [], laidByText := true, laidKinds := [.data, .data, .data], laidTests := true, laidLooks := .later }
def WotsTellsUptoCardSaid : Prop := Claim7.holds Tryz.pinned (.plain (OpenSpec.upto wotsTellsSpec)) wotsTellsUptoCard

/-- THE SECOND FORM's CARD OF 'apostillelaw17.WotsSigns'. -/
def wotsSignsUptoCard : Claim7 := { stood := { row := wotsSignsUptoRow, standIns := [], harness := (true, "16aed8cb882fb6080e445a2bbb4fb357bad450c1f5d6c739bc9acc22d19554f1"), looks := false }, kinds := [], alts := [], laidByText := true, laidKinds := [.data, .data, .data], laidTests := true, laidLooks := .later }
def WotsSignsUptoCardSaid : Prop := Claim7.holds Tryz.pinned (.plain (OpenSpec.upto wotsSignsSpec)) wotsSignsUptoCard
end Rows
end Go.Proofs.YtpmobjfhhkglbaaGreatDoor
