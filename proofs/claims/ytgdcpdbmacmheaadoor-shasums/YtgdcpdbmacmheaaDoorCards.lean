/-
  DERIVED. GIVEN WITH THE SEED: THE CARDS: each row of YtgdcpdbmacmheaaDoorRows.lean that lists a variable, with what it lists TIED to the program's text (the seventh form; the later family's looks); each row that meets fmt, with fmt's text TOLD by the authors' own Lean function (tested against real Go, not proved from fmt's source: count such statements apart). THE CARD IS WHAT COUNTS. Prove the row's statement (the work); the ties are given (YtgdcpdbmacmheaaDoorTie.lean); close each card by the builder's one call (the guide's Derived/Test/ToyasCard.lean, 'card_holds'). Laid BY PROGRAM, IN A SANDBOX (cutbox-door.mjs). By AI agents, Wed Nov 11 2026. No macro, syntax, notation, axiom, sorry.
-/
import Derived.Test.YtgdcpdbmacmheaaDoorRows
import GoSem.ClaimSeven
namespace Go.Proofs.YtgdcpdbmacmheaaDoor
namespace Rows

/-- THE TIED CARD OF 'apostillelaw07.ShaSums'. -/
def shaSumsCard : Claim7 := { stood := { row := shaSumsRow, standIns := [], harness := (true, "1487c1c3618a2a5037795e47a5f00cdcf09bae054f8b661714c98c731cbd074a"), looks := false }, kinds := [], alts := [], laidByText := true, laidKinds := [.data, .data], laidTests := true, laidLooks := .later }
def ShaSumsCardSaid : Prop := Claim7.holds Tryd.pinned (.plain (OpenSpec.ofChange shaSumsSpec)) shaSumsCard

/-- THE TIED CARD OF 'apostillelaw07.ShaAdds'. -/
def shaAddsCard : Claim7 := { stood := { row := shaAddsRow, standIns := [], harness := (true, "1487c1c3618a2a5037795e47a5f00cdcf09bae054f8b661714c98c731cbd074a"), looks := false }, kinds := [], alts := [], laidByText := true, laidKinds := [.data, .data], laidTests := true, laidLooks := .later }
def ShaAddsCardSaid : Prop := Claim7.holds Tryd.pinned (.plain (OpenSpec.ofChange shaAddsSpec)) shaAddsCard

/-- THE TIED CARD OF 'apostillelaw07.ShaParts'. -/
def shaPartsCard : Claim7 := { stood := { row := shaPartsRow, standIns := [], harness := (true, "1487c1c3618a2a5037795e47a5f00cdcf09bae054f8b661714c98c731cbd074a"), looks := false }, kinds := [], alts := [], laidByText := true, laidKinds := [.data, .data], laidTests := true, laidLooks := .later }
def ShaPartsCardSaid : Prop := Claim7.holds Tryd.pinned (.plain (OpenSpec.ofChange shaPartsSpec)) shaPartsCard

/-- THE TIED CARD OF 'apostillelaw07.ShaFills'. -/
def shaFillsCard : Claim7 := { stood := { row := shaFillsRow, standIns := [], harness := (true, "1487c1c3618a2a5037795e47a5f00cdcf09bae054f8b661714c98c731cbd074a"), looks := false }, kinds := [], alts := [], laidByText := true, laidKinds := [.data, .data], laidTests := true, laidLooks := .later }
def ShaFillsCardSaid : Prop := Claim7.holds Tryd.pinned (.plain (OpenSpec.ofChange shaFillsSpec)) shaFillsCard

/-- THE SECOND FORM's CARD OF 'apostillelaw07.ShaSums'. -/
def shaSumsUptoCard : Claim7 := { stood := { row := shaSumsUptoRow, standIns := [], harness := (true, "1487c1c3618a2a5037795e47a5f00cdcf09bae054f8b661714c98c731cbd074a"), looks := false }, kinds := [], alts := [], laidByText := true, laidKinds := [.data, .data], laidTests := true, laidLooks := .later }
def ShaSumsUptoCardSaid : Prop := Claim7.holds Tryd.pinned (.plain (OpenSpec.upto shaSumsSpec)) shaSumsUptoCard

/-- THE SECOND FORM's CARD OF 'apostillelaw07.ShaAdds'. -/
def shaAddsUptoCard : Claim7 := { stood := { row := shaAddsUptoRow, standIns := [], harness := (true, "1487c1c3618a2a5037795e47a5f00cdcf09bae054f8b661714c98c731cbd074a"), looks := false }, kinds := [], alts := [], laidByText := true, laidKinds := [.data, .data], laidTests := true, laidLooks := .later }
def ShaAddsUptoCardSaid : Prop := Claim7.holds Tryd.pinned (.plain (OpenSpec.upto shaAddsSpec)) shaAddsUptoCard

/-- THE SECOND FORM's CARD OF 'apostillelaw07.ShaParts'. -/
def shaPartsUptoCard : Claim7 := { stood := { row := shaPartsUptoRow, standIns := [], harness := (true, "1487c1c3618a2a5037795e47a5f00cdcf09bae054f8b661714c98c731cbd074a"), looks := false }, kinds := [], alts := [], laidByText := true, laidKinds := [.data, .data], laidTests := true, laidLooks := .later }
def ShaPartsUptoCardSaid : Prop := Claim7.holds Tryd.pinned (.plain (OpenSpec.upto shaPartsSpec)) shaPartsUptoCard

/-- THE SECOND FORM's CARD OF 'apostillelaw07.ShaFills'. -/
def shaFillsUptoCard : Claim7 := { stood := { row := shaFillsUptoRow, standIns := [], harness := (true, "1487c1c3618a2a5037795e47a5f00cdcf09bae054f8b661714c98c731cbd074a"), looks := false }, kinds := [], alts := [], laidByText := true, laidKinds := [.data, .data], laidTests := true, laidLooks := .later }
def ShaFillsUptoCardSaid : Prop := Claim7.holds Tryd.pinned (.plain (OpenSpec.upto shaFillsSpec)) shaFillsUptoCard
end Rows
end Go.Proofs.YtgdcpdbmacmheaaDoor
