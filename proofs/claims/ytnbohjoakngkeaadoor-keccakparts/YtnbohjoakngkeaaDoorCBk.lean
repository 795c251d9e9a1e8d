/- Contracts of keccak.blockOf, endOf, New, Fit. -/
import Derived.Test.YtnbohjoakngkeaaDoorKNw
namespace Go.Proofs.YtnbohjoakngkeaaDoor
open Go.RowKit
set_option linter.unusedVariables false
set_option linter.unusedSimpArgs false


theorem block_any (kind : Int) (w : World) : Calls Tryd.prog 22 #[.int .i64 kind] w fun e w' => e = .returned (.int .i64 (rateK kind : Nat)) ∧ w' = w := by
  by_cases h4 : kind = 4
  · subst h4
    go_enter Tryd.func22, Tryd.ntmps22
    go_wp2
    go_ret
    exact ⟨rfl, rfl⟩
  by_cases h7 : kind = 7
  · subst h7
    go_enter Tryd.func22, Tryd.ntmps22
    go_wp2
    go_ret
    exact ⟨rfl, rfl⟩
  by_cases h5 : kind = 5
  · subst h5
    go_enter Tryd.func22, Tryd.ntmps22
    go_wp2
    go_ret
    exact ⟨rfl, rfl⟩
  by_cases h6 : kind = 6
  · subst h6
    go_enter Tryd.func22, Tryd.ntmps22
    go_wp2
    go_ret
    exact ⟨rfl, rfl⟩
  have hr : rateK kind = 0 := by simp [rateK, h4, h5, h6, h7]
  rw [hr]
  go_enter Tryd.func22, Tryd.ntmps22
  go_wp2
  go_ret
  exact ⟨rfl, rfl⟩

set_option maxHeartbeats 4000000 in
set_option maxRecDepth 100000 in
theorem cnew_ok (kind : Int) (w : World) (hr : 0 < rateK kind) :
    Calls Tryd.prog 10 #[.int .i64 kind] w fun e w' => e = .returned (.tuple #[.agg (sl kind (zs 25) 0 false).toArray, .int .i64 0]) ∧ Below w.heap.size w w' := by
  have hz := zero28
  have hrk := fun w' => block_any kind w'
  have hne : (((rateK kind : Nat) : Int) == 0) = false := by rw [beq_eq_false_iff_ne]; omega
  have hR : (w.alloc (.cells (sl 0 (zs 25) 0 false).toArray 26)).heap[w.heap.size]? = some (.cells (sl 0 (zs 25) 0 false).toArray 26 (0, 0)) := heap_alloc_last w _
  go_enter Tryd.func10, Tryd.ntmps10
  have hsz : (sl kind (zs 25) 0 false).toArray.size = 28 := by simp [sl_len (zs_len 25)]
  have hsz0 : (sl 0 (zs 25) 0 false).toArray.size = 28 := by simp [sl_len (zs_len 25)]
  go_wp2_with (first
    | (go_at_call 22; refine (hrk _).mono ?_; rintro e w' ⟨rfl, rfl⟩)
    | (refine wpList_store_row rfl 26 _ _ (by rfl) w.heap.size (sl kind (zs 25) 0 false).toArray (by rfl) (by rfl) _ _ hR (by rw [hsz]; kernel_rfl) (by rw [hsz, hsz0]) (all_oneCell_toArray (sl_one _ _ _ _)) ?_)
    | fail)
  have hfu := setRow_heap (w.alloc (.cells (sl 0 (zs 25) 0 false).toArray 26)) w.heap.size _ (sl kind (zs 25) 0 false).toArray 26 _ hR
  have hlv := run_loadVar_row (P := Tryd.prog) ((w.alloc (.cells (sl 0 (zs 25) 0 false).toArray 26)).setRow w.heap.size (sl kind (zs 25) 0 false).toArray) w.heap.size _ 26 _ _ _ hfu Tryd.underlying26 rfl (by rw [hsz]; kernel_rfl)
  have hbf := (keep_alloc w (.cells (sl 0 (zs 25) 0 false).toArray 26)).trans ((But.setRow (But.refl w.heap.size _) (sl kind (zs 25) 0 false).toArray).below (Nat.le_refl _) (by simp))
  refine bodyPost_ret (v := .tuple #[.agg (sl kind (zs 25) 0 false).toArray, .int .i64 0]) ?_ rfl ⟨rfl, hbf⟩
  simp [results, Tryd.results10, asAddr, hlv]
set_option maxHeartbeats 4000000 in
set_option maxRecDepth 100000 in
theorem cnew_no (kind : Int) (w : World) (hr : rateK kind = 0) :
    Calls Tryd.prog 10 #[.int .i64 kind] w fun e w' => e = .returned (.tuple #[.agg (sl 0 (zs 25) 0 false).toArray, .int .i64 9]) ∧ Below w.heap.size w w' := by
  have hz := zero28
  have hrk := fun w' => block_any kind w'
  rw [hr] at hrk
  clear hr
  have hR : (w.alloc (.cells (sl 0 (zs 25) 0 false).toArray 26)).heap[w.heap.size]? = some (.cells (sl 0 (zs 25) 0 false).toArray 26 (0, 0)) := heap_alloc_last w _
  have hsz0 : (sl 0 (zs 25) 0 false).toArray.size = 28 := by simp [sl_len (zs_len 25)]
  go_enter Tryd.func10, Tryd.ntmps10
  go_wp2_with (first
    | (go_at_call 22; refine (hrk _).mono ?_; rintro e w' ⟨rfl, rfl⟩)
    | (refine wpList_store_row rfl 26 _ _ (by rfl) w.heap.size (sl 0 (zs 25) 0 false).toArray (by rfl) (by rfl) _ _ hR (by rw [hsz0]; kernel_rfl) rfl (all_oneCell_toArray (sl_one _ _ _ _)) ?_)
    | fail)
  have hfu := setRow_heap (w.alloc (.cells (sl 0 (zs 25) 0 false).toArray 26)) w.heap.size _ (sl 0 (zs 25) 0 false).toArray 26 _ hR
  have hlv := run_loadVar_row (P := Tryd.prog) ((w.alloc (.cells (sl 0 (zs 25) 0 false).toArray 26)).setRow w.heap.size (sl 0 (zs 25) 0 false).toArray) w.heap.size _ 26 _ _ _ hfu Tryd.underlying26 rfl (by rw [hsz0]; kernel_rfl)
  have hbf := (keep_alloc w (.cells (sl 0 (zs 25) 0 false).toArray 26)).trans ((But.setRow (But.refl w.heap.size _) (sl 0 (zs 25) 0 false).toArray).below (Nat.le_refl _) (by simp))
  refine bodyPost_ret (v := .tuple #[.agg (sl 0 (zs 25) 0 false).toArray, .int .i64 9]) ?_ rfl ⟨rfl, hbf⟩
  simp [results, Tryd.results10, asAddr, hlv]
theorem endof_any (kind : Int) (w : World) :
    Calls Tryd.prog 36 #[.int .i64 kind] w fun e w' => e = .returned (.int .u8 (markK kind : Nat)) ∧ w' = w := by
  unfold markK
  by_cases h4 : kind = 4
  · subst h4
    go_enter Tryd.func36, Tryd.ntmps36
    go_wp2
    go_ret
    exact ⟨rfl, rfl⟩
  · by_cases h5 : kind = 5
    · subst h5
      go_enter Tryd.func36, Tryd.ntmps36
      go_wp2
      go_ret
      exact ⟨rfl, rfl⟩
    · have b4 : (kind == 4) = false := by rw [beq_eq_false_iff_ne]; exact h4
      have b5 : (kind == 5) = false := by rw [beq_eq_false_iff_ne]; exact h5
      rw [if_neg (by omega)]
      go_enter Tryd.func36, Tryd.ntmps36
      go_wp2
      go_ret
      exact ⟨rfl, rfl⟩
set_option maxHeartbeats 4000000 in
set_option maxRecDepth 100000 in
theorem cfit_any (kind : Int) (ws : List Nat) (p : Int) (o : Bool) (w : World) (hl : ws.length = 25) :
    Calls Tryd.prog 15 #[.agg (sl kind ws p o).toArray] w fun e w' => e = .returned (.bool (fitK kind p o)) ∧ Below w.heap.size w w' := by
  have hS := Sg.new w 26 kind ws p o hl
  have hb := keep_alloc w (.cells (sl kind ws p o).toArray 26)
  have c0 := hS.kind
  have c26 := hS.at
  have c27 := hS.out
  have hrk := fun w' => block_any kind w'
  obtain ⟨bb, hbb⟩ : ∃ x, x = fitK kind p o := ⟨_, rfl⟩
  rw [← hbb]
  unfold fitK at hbb
  generalize rateK kind = rt at *
  by_cases h1 : 0 < rt
  · have h1i : ((rt : Int) == 0) = false := by rw [beq_eq_false_iff_ne]; omega
    have h1n : (rt == 0) = false := by rw [beq_eq_false_iff_ne]; omega
    have h1e : ¬ rt = 0 := by omega
    by_cases h2 : 0 ≤ p
    · have h2d : decide (p < 0) = false := decide_eq_false (by omega)
      have h2e : ¬ p < 0 := by omega
      by_cases h3 : p < (rt : Int)
      · simp [h1, h2, h3] at hbb
        subst hbb
        go_enter Tryd.func15, Tryd.ntmps15
        go_wp2_with (first
          | (go_at_call 22; refine (hrk _).mono ?_; rintro e w' ⟨rfl, rfl⟩)
          | fail)
        go_ret
        exact ⟨rfl, hb⟩
      · have h3d : decide (p < (rt : Int)) = false := decide_eq_false h3
        cases o with
        | false =>
          simp [h1, h2, h3] at hbb
          subst hbb
          go_enter Tryd.func15, Tryd.ntmps15
          go_wp2_with (first
            | (go_at_call 22; refine (hrk _).mono ?_; rintro e w' ⟨rfl, rfl⟩)
            | fail)
          go_ret
          exact ⟨rfl, hb⟩
        | true =>
          by_cases h4 : p = (rt : Int)
          · subst h4
            simp [h1] at hbb
            subst hbb
            go_enter Tryd.func15, Tryd.ntmps15
            go_wp2_with (first
              | (go_at_call 22; refine (hrk _).mono ?_; rintro e w' ⟨rfl, rfl⟩)
              | fail)
            go_ret
            exact ⟨rfl, hb⟩
          · have h4b : (p == (rt : Int)) = false := by rw [beq_eq_false_iff_ne]; exact h4
            simp [h1, h2, h3, h4] at hbb
            subst hbb
            go_enter Tryd.func15, Tryd.ntmps15
            go_wp2_with (first
              | (go_at_call 22; refine (hrk _).mono ?_; rintro e w' ⟨rfl, rfl⟩)
              | fail)
            go_ret
            exact ⟨rfl, hb⟩
    · have h2d : decide (p < 0) = true := decide_eq_true (by omega)
      have h2e : p < 0 := by omega
      simp [h1, h2] at hbb
      subst hbb
      go_enter Tryd.func15, Tryd.ntmps15
      go_wp2_with (first
        | (go_at_call 22; refine (hrk _).mono ?_; rintro e w' ⟨rfl, rfl⟩)
        | fail)
      go_ret
      exact ⟨rfl, hb⟩
  · obtain rfl : rt = 0 := by omega
    simp at hbb
    subst hbb
    go_enter Tryd.func15, Tryd.ntmps15
    go_wp2_with (first
      | (go_at_call 22; refine (hrk _).mono ?_; rintro e w' ⟨rfl, rfl⟩)
      | fail)
    go_ret
    exact ⟨rfl, hb⟩
end Go.Proofs.YtnbohjoakngkeaaDoor
