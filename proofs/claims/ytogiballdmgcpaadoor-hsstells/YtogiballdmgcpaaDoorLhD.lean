/- Trees of trees: what the program and the document answer, side by side: Vector. -/
import Derived.Test.YtogiballdmgcpaaDoorLhE
import Derived.Test.YtogiballdmgcpaaDoorLcE
namespace Go.Proofs.YtogiballdmgcpaaDoor
open Go.RowKit
set_option linter.unusedVariables false
set_option linter.unusedSimpArgs false

/-- what both answer: numbers, and an error -/
def BothV (w : World) (F : FuncId) (args : Array Value) (c : Int) (X : List Nat) : Prop := ∀ y, Below w.heap.size w y → Calls Tryd.prog F args y fun e w' => ∃ v, e = .returned (.tuple #[v, .int .i64 c]) ∧ Row .u32 4294967296 w' v X ∧ Below y.heap.size y w'
theorem both_vecH {w : World} (ts : List (Int × Int)) (tv iv sv : Value) (id seed : List Nat) (n : Nat) (ht : TrS w tv ts) (ri : Row .u8 256 w iv id) (ti : Tidy iv) (rs : Row .u8 256 w sv seed) (tis : Tidy sv) (hT : Roots w) (hn : n < 18446744073709551616) :
    ∃ c X, BothV w 7 #[.agg #[tv, iv, sv], .int .u64 (n : Int)] c X ∧ BothV w 8 #[.agg #[tv, iv, sv], .int .u64 (n : Int)] c X := by
  by_cases hE : vcE ts id.length seed.length n = 0
  · have hK : FitK ts id.length seed.length := by
      unfold vcE at hE
      by_cases h : FitK ts id.length seed.length
      · exact h
      · rw [if_pos h] at hE; omega
    have hnL : n < lvN ts := by
      unfold vcE at hE
      rw [if_neg (by simpa using hK)] at hE
      by_cases h : lvN ts ≤ n
      · rw [if_pos h] at hE; omega
      · omega
    refine ⟨0, vecF ts n, fun y k => ?_, fun y k => ?_⟩
    · refine (cvec_ok ts tv iv sv id seed n y (ht.below k) (ri.below k) ti (rs.below k) tis (hT.below k) hK hnL).mono ?_
      rintro e w' ⟨v, h1, h2, h3⟩
      exact ⟨v, h1, h2.row, h3⟩
    · obtain ⟨ia, ic, rfl, _⟩ := ri.opens rfl
      obtain ⟨sa, sc, rfl, _⟩ := rs.opens rfl
      refine (rvec_ok ts tv ia sa _ ic _ sc n y (ht.below k) hK hnL).mono ?_
      rintro e w' ⟨v, h1, h2, h3⟩
      exact ⟨v, h1, h2.row, h3⟩
  · obtain ⟨ia, ic, rfl, _⟩ := ri.opens rfl
    obtain ⟨sa, sc, rfl, _⟩ := rs.opens rfl
    refine ⟨vcE ts id.length seed.length n, [], fun y k => ?_, fun y k => ?_⟩
    · refine (cvec_no ts tv ia sa _ ic _ sc n y (ht.below k) hE hn).mono ?_
      rintro e w' ⟨h1, h2⟩
      exact ⟨_, h1, Row.nil _ _ _, h2⟩
    · refine (rvec_no ts tv ia sa _ ic _ sc n y (ht.below k) hE hn).mono ?_
      rintro e w' ⟨h1, h2⟩
      exact ⟨_, h1, Row.nil _ _ _, h2⟩
def ht5lt : List Lt := [(0, some 35, [2]), (1, some 36, [35]), (0, some 37, [2]), (6, some 38, [37]), (10, some 39, [36, 38]), (24, some 40, [39]), (32, some 41, [2, 40]), (96, some 42, [41, 40]), (32, some 43, [2, 40]), (416, some 44, [43, 40]), (672, some 45, [42, 44, 40]), (1056, some 46, [40, 45]), (2560, some 47, [46]), (4096, some 48, [5, 47]), (4096, some 49, [7, 47]), (28672, some 50, [48, 49, 47]), (36864, some 51, [47, 50]), (98304, some 52, [51]), (131072, some 53, [6, 52]), (131072, some 54, [8, 52]), (917504, some 55, [53, 54, 52]), (1179648, some 56, [52, 55]), (2228224, some 57, [56]), (4194304, some 58, [57]), (12582912, some 59, [57, 58]), (33554431, some 4, [59])]
theorem ht5reg : Reg (opsA (cLA (cRA (cRA (cRA (cRA (Tryd.f3.body.getD .skip))))))) ht5lt := ⟨by kernel_rfl, by kernel_rfl⟩

end Go.Proofs.YtogiballdmgcpaaDoor
