/- Trees of trees: what the program and the document answer, side by side: Public, Sign. -/
import Derived.Test.YtogiballdmgcpaaGreatDoorLhE
import Derived.Test.YtogiballdmgcpaaGreatDoorLhQ
import Derived.Test.YtogiballdmgcpaaGreatDoorHkP
import Derived.Test.YtogiballdmgcpaaGreatDoorHkS2
namespace Go.Proofs.YtogiballdmgcpaaGreatDoor
open Go.RowKit
set_option linter.unusedVariables false
set_option linter.unusedSimpArgs false

/-- what both answer: a text, and an error -/
def BothH (w : World) (F : FuncId) (args : Array Value) (c : Int) (X : List Nat) (k : IntKind) : Prop := ∀ y, Below w.heap.size w y → Calls Tryz.prog F args y fun e w' => ∃ v, e = .returned (.tuple #[v, .int k c]) ∧ Row .u8 256 w' v X ∧ Below y.heap.size y w'
theorem both_pubH {w : World} (ts : List (Int × Int)) (tv iv sv : Value) (id seed : List Nat) (hl : LightH ts id.length seed.length) (ht : TrS w tv ts) (ri : Row .u8 256 w iv id) (ti : Tidy iv) (rs : Row .u8 256 w sv seed) (tis : Tidy sv) (hT : Roots w) :
    ∃ c X, BothH w 9 #[.agg #[tv, iv, sv]] c X .i64 ∧ BothH w 10 #[.agg #[tv, iv, sv]] c X .i64 := by
  by_cases hK : FitK ts id.length seed.length
  · have h2 := hl.2 hK
    have h8 : (trA ts 0).2 ≠ 8 := by
      have := (h2.1 _ (trA_mem (ts := ts) (i := 0) (by have := hK.1; omega))).2
      omega
    refine ⟨0, be4 ts.length ++ pubG (trA ts 0) id seed, fun y k => ?_, fun y k => ?_⟩
    · refine (cpubH_ok ts tv iv sv id seed y (ht.below k) (ri.below k) ti (rs.below k) tis (hT.below k) hK).mono ?_
      rintro e w' ⟨v, h1, h2, h3⟩
      exact ⟨v, h1, h2.row, h3⟩
    · refine (rpubH_ok ts tv iv sv id seed y (ht.below k) (ri.below k) ti (rs.below k) tis hK h8).mono ?_
      rintro e w' ⟨v, h1, h2, h3⟩
      exact ⟨v, h1, h2.row, h3⟩
  · obtain ⟨ia, ic, rfl, _⟩ := ri.opens rfl
    obtain ⟨sa, sc, rfl, _⟩ := rs.opens rfl
    refine ⟨10, [], fun y k => ?_, fun y k => ?_⟩
    · refine (cpubH_no ts tv ia sa _ ic _ sc y (ht.below k) hK).mono ?_
      rintro e w' ⟨h1, h2⟩
      exact ⟨_, h1, Row.nil _ _ _, h2⟩
    · refine (rpubH_no ts tv ia sa _ ic _ sc y (ht.below k) hK).mono ?_
      rintro e w' ⟨h1, h2⟩
      exact ⟨_, h1, Row.nil _ _ _, h2⟩
theorem both_sgnH {w : World} (ts : List (Int × Int)) (tv iv sv xv : Value) (id seed text : List Nat) (n : Nat) (hl : LightH ts id.length seed.length) (ht : TrS w tv ts) (ri : Row .u8 256 w iv id) (ti : Tidy iv) (rs : Row .u8 256 w sv seed) (tis : Tidy sv) (rx : Row .u8 256 w xv text) (tx : Tidy xv) (htl : text.length ≤ 300) (hT : Roots w) (hn : n < 18446744073709551616) :
    ∃ c X, BothH w 11 #[.agg #[tv, iv, sv], .int .u64 (n : Int), xv] c X .i64 ∧ BothH w 12 #[.agg #[tv, iv, sv], .int .u64 (n : Int), xv] c X .i64 := by
  by_cases hE : vcE ts id.length seed.length n = 0
  · have hK : FitK ts id.length seed.length := by
      unfold vcE at hE
      by_cases h : FitK ts id.length seed.length
      · exact h
      · rw [if_pos h] at hE; omega
    have hnL : n < lvN ts := by
      unfold vcE at hE
      rw [if_neg (by simpa using hK)] at hE
      by_cases h : lvN ts ≤ n
      · rw [if_pos h] at hE; omega
      · omega
    have h2 := hl.2 hK
    have h8 : ∀ t ∈ ts, t.2 ≠ 8 := fun t ht => by have := (h2.1 t ht).2; omega
    refine ⟨0, hsSig ts (vecF ts n) id seed text, fun y k => ?_, fun y k => ?_⟩
    · refine (csgnH_ok ts tv iv sv xv id seed text n y (ht.below k) (ri.below k) ti (rs.below k) tis (rx.below k) tx (hT.below k) (by omega) hK hnL).mono ?_
      rintro e w' ⟨v, h1, h2, h3⟩
      exact ⟨v, h1, h2.row, h3⟩
    · refine (rsgnH_ok ts tv iv sv xv id seed text n y (ht.below k) (ri.below k) ti (rs.below k) tis (rx.below k) tx (by omega) hK h8 hnL).mono ?_
      rintro e w' ⟨v, h1, h2, h3⟩
      exact ⟨v, h1, h2.row, h3⟩
  · obtain ⟨ia, ic, rfl, _⟩ := ri.opens rfl
    obtain ⟨sa, sc, rfl, _⟩ := rs.opens rfl
    obtain ⟨xa, xc, rfl, _⟩ := rx.opens rfl
    refine ⟨vcE ts id.length seed.length n, [], fun y k => ?_, fun y k => ?_⟩
    · refine (csgnH_no ts tv ia sa xa _ ic _ sc _ xc n y (ht.below k) hE hn).mono ?_
      rintro e w' ⟨h1, h2⟩
      exact ⟨_, h1, Row.nil _ _ _, h2⟩
    · refine (rsgnH_no ts tv _ ia sa _ ic _ sc n y (ht.below k) hE hn).mono ?_
      rintro e w' ⟨h1, h2⟩
      exact ⟨_, h1, Row.nil _ _ _, h2⟩
end Go.Proofs.YtogiballdmgcpaaGreatDoor
