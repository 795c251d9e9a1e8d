/- Contracts of the document's New and Fit of sponges; Squeeze of less than no bytes. -/
import Derived.Test.YtnbohjoakngkeaaDoorKSq
namespace Go.Proofs.YtnbohjoakngkeaaDoor
open Go.RowKit
set_option linter.unusedVariables false
set_option linter.unusedSimpArgs false

set_option maxHeartbeats 4000000 in
set_option maxRecDepth 100000 in
theorem ksqz_neg (kind : Int) (ws : List Nat) (p : Int) (o : Bool) (n : Int) (w : World) (hl : ws.length = 25) (hn : n < 0) :
    Calls Tryd.prog 20 #[.agg (sl kind ws p o).toArray, .int .i64 n] w fun e w' => e = .returned (.tuple #[.agg (sl kind ws p o).toArray, .slice none 0 0]) ∧ Below w.heap.size w w' := by
  have hz := zero28
  have hS : Sg ((w.alloc (.cells (sl kind ws p o).toArray 26)).alloc (.cells (sl 0 (zs 25) 0 false).toArray 26)) w.heap.size kind ws p o := (Sg.new w 26 kind ws p o hl).below (keep_alloc _ _)
  have hR : ((w.alloc (.cells (sl kind ws p o).toArray 26)).alloc (.cells (sl 0 (zs 25) 0 false).toArray 26)).heap[w.heap.size + 1]? = some (.cells (sl 0 (zs 25) 0 false).toArray 26 (0, 0)) := by
    have := heap_alloc_last (w.alloc (.cells (sl kind ws p o).toArray 26)) (.cells (sl 0 (zs 25) 0 false).toArray 26)
    rw [World.size_alloc] at this
    exact this
  have hb := keep_trans (keep_alloc w (.cells (sl kind ws p o).toArray 26)) (keep_alloc _ (.cells (sl 0 (zs 25) 0 false).toArray 26))
  have hll := hS.all
  have hslen := sl_len (kind := kind) (p := p) (o := o) hl
  have hsz : (sl kind ws p o).toArray.size = 28 := by simp [hslen]
  have hsz0 : (sl 0 (zs 25) 0 false).toArray.size = 28 := by simp [sl_len (zs_len 25)]
  have hfu := setRow_heap ((w.alloc (.cells (sl kind ws p o).toArray 26)).alloc (.cells (sl 0 (zs 25) 0 false).toArray 26)) (w.heap.size + 1) _ (sl kind ws p o).toArray 26 _ hR
  have hbf := hb.trans ((But.setRow (But.refl (w.heap.size + 1) _) (sl kind ws p o).toArray).below (by omega) hb.size)
  go_enter Tryd.func20, Tryd.ntmps20
  go_wp2_with (first
    | (refine wpList_load_mid rfl 26 _ (by rfl) w.heap.size 0 (by rfl) (sl kind ws p o) _ hll Tryd.underlying26 rfl (by rw [hslen]; kernel_rfl) ?_)
    | (refine wpList_store_row rfl 26 _ _ (by rfl) (w.heap.size + 1) (sl kind ws p o).toArray (by rfl) (by rfl) _ _ hR (by rw [hsz]; kernel_rfl) (by rw [hsz, hsz0]) (all_oneCell_toArray (sl_one _ _ _ _)) ?_)
    | fail)
  have hlv := run_loadVar_row (P := Tryd.prog) (((w.alloc (.cells (sl kind ws p o).toArray 26)).alloc (.cells (sl 0 (zs 25) 0 false).toArray 26)).setRow (w.heap.size + 1) (sl kind ws p o).toArray) (w.heap.size + 1) _ 26 _ _ _ hfu Tryd.underlying26 rfl (by rw [hsz]; kernel_rfl)
  refine bodyPost_ret (v := .tuple #[.agg (sl kind ws p o).toArray, .slice none 0 0]) ?_ rfl ⟨rfl, hbf⟩
  simp [results, Tryd.results20, asAddr, hlv]

set_option maxHeartbeats 4000000 in
set_option maxRecDepth 100000 in
theorem knew_ok (kind : Int) (w : World) (hr : 0 < rateK kind) :
    Calls Tryd.prog 11 #[.int .i64 kind] w fun e w' => e = .returned (.tuple #[.agg (sl kind (zs 25) 0 false).toArray, .int .i64 0]) ∧ Below w.heap.size w w' := by
  have hz := zero28
  have hrk := fun w' => krate_any kind w'
  have hne : (((rateK kind : Nat) : Int) == 0) = false := by rw [beq_eq_false_iff_ne]; omega
  have hR : (w.alloc (.cells (sl 0 (zs 25) 0 false).toArray 26)).heap[w.heap.size]? = some (.cells (sl 0 (zs 25) 0 false).toArray 26 (0, 0)) := heap_alloc_last w _
  go_enter Tryd.func11, Tryd.ntmps11
  have hsz : (sl kind (zs 25) 0 false).toArray.size = 28 := by simp [sl_len (zs_len 25)]
  have hsz0 : (sl 0 (zs 25) 0 false).toArray.size = 28 := by simp [sl_len (zs_len 25)]
  go_wp2_with (first
    | (go_at_call 23; refine (hrk _).mono ?_; rintro e w' ⟨rfl, rfl⟩)
    | (refine wpList_store_row rfl 26 _ _ (by rfl) w.heap.size (sl kind (zs 25) 0 false).toArray (by rfl) (by rfl) _ _ hR (by rw [hsz]; kernel_rfl) (by rw [hsz, hsz0]) (all_oneCell_toArray (sl_one _ _ _ _)) ?_)
    | fail)
  have hfu := setRow_heap (w.alloc (.cells (sl 0 (zs 25) 0 false).toArray 26)) w.heap.size _ (sl kind (zs 25) 0 false).toArray 26 _ hR
  have hlv := run_loadVar_row (P := Tryd.prog) ((w.alloc (.cells (sl 0 (zs 25) 0 false).toArray 26)).setRow w.heap.size (sl kind (zs 25) 0 false).toArray) w.heap.size _ 26 _ _ _ hfu Tryd.underlying26 rfl (by rw [hsz]; kernel_rfl)
  have hbf := (keep_alloc w (.cells (sl 0 (zs 25) 0 false).toArray 26)).trans ((But.setRow (But.refl w.heap.size _) (sl kind (zs 25) 0 false).toArray).below (Nat.le_refl _) (by simp))
  refine bodyPost_ret (v := .tuple #[.agg (sl kind (zs 25) 0 false).toArray, .int .i64 0]) ?_ rfl ⟨rfl, hbf⟩
  simp [results, Tryd.results11, asAddr, hlv]
set_option maxHeartbeats 4000000 in
set_option maxRecDepth 100000 in
theorem knew_no (kind : Int) (w : World) (hr : rateK kind = 0) :
    Calls Tryd.prog 11 #[.int .i64 kind] w fun e w' => e = .returned (.tuple #[.agg (sl 0 (zs 25) 0 false).toArray, .int .i64 9]) ∧ Below w.heap.size w w' := by
  have hz := zero28
  have hrk := fun w' => krate_any kind w'
  rw [hr] at hrk
  clear hr
  have hR : (w.alloc (.cells (sl 0 (zs 25) 0 false).toArray 26)).heap[w.heap.size]? = some (.cells (sl 0 (zs 25) 0 false).toArray 26 (0, 0)) := heap_alloc_last w _
  have hsz0 : (sl 0 (zs 25) 0 false).toArray.size = 28 := by simp [sl_len (zs_len 25)]
  go_enter Tryd.func11, Tryd.ntmps11
  go_wp2_with (first
    | (go_at_call 23; refine (hrk _).mono ?_; rintro e w' ⟨rfl, rfl⟩)
    | (refine wpList_store_row rfl 26 _ _ (by rfl) w.heap.size (sl 0 (zs 25) 0 false).toArray (by rfl) (by rfl) _ _ hR (by rw [hsz0]; kernel_rfl) rfl (all_oneCell_toArray (sl_one _ _ _ _)) ?_)
    | fail)
  have hfu := setRow_heap (w.alloc (.cells (sl 0 (zs 25) 0 false).toArray 26)) w.heap.size _ (sl 0 (zs 25) 0 false).toArray 26 _ hR
  have hlv := run_loadVar_row (P := Tryd.prog) ((w.alloc (.cells (sl 0 (zs 25) 0 false).toArray 26)).setRow w.heap.size (sl 0 (zs 25) 0 false).toArray) w.heap.size _ 26 _ _ _ hfu Tryd.underlying26 rfl (by rw [hsz0]; kernel_rfl)
  have hbf := (keep_alloc w (.cells (sl 0 (zs 25) 0 false).toArray 26)).trans ((But.setRow (But.refl w.heap.size _) (sl 0 (zs 25) 0 false).toArray).below (Nat.le_refl _) (by simp))
  refine bodyPost_ret (v := .tuple #[.agg (sl 0 (zs 25) 0 false).toArray, .int .i64 9]) ?_ rfl ⟨rfl, hbf⟩
  simp [results, Tryd.results11, asAddr, hlv]
/-- what is fit -/
def fitK (kind p : Int) (o : Bool) : Bool := decide (0 < rateK kind) && (decide (0 ≤ p) && (decide (p < (rateK kind : Nat)) || (o && decide (p = (rateK kind : Nat)))))
set_option maxHeartbeats 4000000 in
set_option maxRecDepth 100000 in
theorem kfit_any (kind : Int) (ws : List Nat) (p : Int) (o : Bool) (w : World) (hl : ws.length = 25) :
    Calls Tryd.prog 16 #[.agg (sl kind ws p o).toArray] w fun e w' => e = .returned (.bool (fitK kind p o)) ∧ Below w.heap.size w w' := by
  have hS := Sg.new w 26 kind ws p o hl
  have hb := keep_alloc w (.cells (sl kind ws p o).toArray 26)
  have c0 := hS.kind
  have c26 := hS.at
  have c27 := hS.out
  have hrk := fun w' => krate_any kind w'
  obtain ⟨bb, hbb⟩ : ∃ x, x = fitK kind p o := ⟨_, rfl⟩
  rw [← hbb]
  unfold fitK at hbb
  generalize rateK kind = rt at *
  by_cases h1 : 0 < rt
  · have h1i : (0 : Int) < (rt : Int) := by omega
    by_cases h2 : 0 ≤ p
    · by_cases h3 : p < (rt : Int)
      · simp [h1, h2, h3] at hbb
        subst hbb
        go_enter Tryd.func16, Tryd.ntmps16
        go_wp2_with (first
          | (go_at_call 23; refine (hrk _).mono ?_; rintro e w' ⟨rfl, rfl⟩)
          | fail)
        go_ret
        exact ⟨rfl, hb⟩
      · have h3d : decide (p < (rt : Int)) = false := decide_eq_false h3
        cases o with
        | false =>
          simp [h1, h2, h3] at hbb
          subst hbb
          go_enter Tryd.func16, Tryd.ntmps16
          go_wp2_with (first
            | (go_at_call 23; refine (hrk _).mono ?_; rintro e w' ⟨rfl, rfl⟩)
            | fail)
          go_ret
          exact ⟨rfl, hb⟩
        | true =>
          by_cases h4 : p = (rt : Int)
          · subst h4
            simp [h1] at hbb
            subst hbb
            go_enter Tryd.func16, Tryd.ntmps16
            go_wp2_with (first
              | (go_at_call 23; refine (hrk _).mono ?_; rintro e w' ⟨rfl, rfl⟩)
              | fail)
            go_ret
            exact ⟨rfl, hb⟩
          · have h4b : (p == (rt : Int)) = false := by rw [beq_eq_false_iff_ne]; exact h4
            simp [h1, h2, h3, h4] at hbb
            subst hbb
            go_enter Tryd.func16, Tryd.ntmps16
            go_wp2_with (first
              | (go_at_call 23; refine (hrk _).mono ?_; rintro e w' ⟨rfl, rfl⟩)
              | fail)
            go_ret
            exact ⟨rfl, hb⟩
    · have h2d : decide (0 ≤ p) = false := decide_eq_false h2
      simp [h1, h2] at hbb
      subst hbb
      go_enter Tryd.func16, Tryd.ntmps16
      go_wp2_with (first
        | (go_at_call 23; refine (hrk _).mono ?_; rintro e w' ⟨rfl, rfl⟩)
        | fail)
      go_ret
      exact ⟨rfl, hb⟩
  · have h1i : ¬ (0 : Int) < (rt : Int) := by omega
    simp [h1] at hbb
    subst hbb
    go_enter Tryd.func16, Tryd.ntmps16
    go_wp2_with (first
      | (go_at_call 23; refine (hrk _).mono ?_; rintro e w' ⟨rfl, rfl⟩)
      | fail)
    go_ret
    exact ⟨rfl, hb⟩
end Go.Proofs.YtnbohjoakngkeaaDoor
