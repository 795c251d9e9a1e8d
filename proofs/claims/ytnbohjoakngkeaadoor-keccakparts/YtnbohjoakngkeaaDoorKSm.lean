/- Contract of the document's Sum of sponges. -/
import Derived.Test.YtnbohjoakngkeaaDoorKNw
namespace Go.Proofs.YtnbohjoakngkeaaDoor
open Go.RowKit
set_option linter.unusedVariables false
set_option linter.unusedSimpArgs false

theorem zs_w : W25 (zs 25) := W25.zero
theorem begK_w {kind : Int} {ws : List Nat} {p : Nat} {o : Bool} (h : W25 ws) : W25 (begK kind ws p o).1 := by
  cases o with
  | false => unfold begK; dsimp only [cond_false]; exact endK_w (s := (ws, p)) h
  | true => unfold begK; dsimp only [cond_true]; exact h
/-- the bytes of a sum -/
def sumK (kind : Int) (b : List Nat) (n : Nat) : List Nat := sqzB (rateK kind) (begK kind (absK (rateK kind) (zs 25, 0) b).1 (absK (rateK kind) (zs 25, 0) b).2 false) n

set_option maxHeartbeats 4000000 in
set_option maxRecDepth 100000 in
theorem ksum_alg (kind : Int) (bv : Value) (n : Int) (w : World) (hr : rateK kind = 0) :
    Calls Tryd.prog 9 #[.int .i64 kind, bv, .int .i64 n] w fun e w' => e = .returned (.tuple #[.slice none 0 0, .int .i64 9]) ∧ Below w.heap.size w w' := by
  have hz := zero28
  have hnew := fun w' => knew_no kind w' hr
  have hsz0 : (sl 0 (zs 25) 0 false).toArray.size = 28 := by simp [sl_len (zs_len 25)]
  clear hr
  go_enter Tryd.func9, Tryd.ntmps9
  go_wp2_with (first
    | (go_at_call 11; refine (hnew _).mono ?_; rintro e w1 ⟨rfl, hb1⟩; have hR1 : (w1.alloc (.cells (sl 0 (zs 25) 0 false).toArray 26)).heap[w1.heap.size]? = some (.cells (sl 0 (zs 25) 0 false).toArray 26 (0, 0)) := heap_alloc_last w1 _)
    | (refine wpList_store_row rfl 26 _ _ (by rfl) w1.heap.size (sl 0 (zs 25) 0 false).toArray (by rfl) (by rfl) _ _ hR1 (by rw [hsz0]; kernel_rfl) rfl (all_oneCell_toArray (sl_one _ _ _ _)) ?_)
    | fail)
  go_ret2
  exact ⟨rfl, (keep_trans hb1 (keep_alloc _ _)).trans ((But.setRow (But.refl w1.heap.size _) _).below hb1.size (by simp; have := hb1.size; omega))⟩

set_option maxHeartbeats 4000000 in
set_option maxRecDepth 100000 in
theorem ksum_range (kind : Int) (bv : Value) (n : Int) (w : World) (hr : 0 < rateK kind) (hn : n < 0 ∨ 16777216 < n) :
    Calls Tryd.prog 9 #[.int .i64 kind, bv, .int .i64 n] w fun e w' => e = .returned (.tuple #[.slice none 0 0, .int .i64 8]) ∧ Below w.heap.size w w' := by
  have hz := zero28
  have hnew := fun w' => knew_ok kind w' hr
  have hsz0 : (sl 0 (zs 25) 0 false).toArray.size = 28 := by simp [sl_len (zs_len 25)]
  have hsz : (sl kind (zs 25) 0 false).toArray.size = 28 := by simp [sl_len (zs_len 25)]
  clear hr
  by_cases hneg : n < 0
  · go_enter Tryd.func9, Tryd.ntmps9
    go_wp2_with (first
      | (go_at_call 11; refine (hnew _).mono ?_; rintro e w1 ⟨rfl, hb1⟩; have hR1 : (w1.alloc (.cells (sl 0 (zs 25) 0 false).toArray 26)).heap[w1.heap.size]? = some (.cells (sl 0 (zs 25) 0 false).toArray 26 (0, 0)) := heap_alloc_last w1 _)
      | (refine wpList_store_row rfl 26 _ _ (by rfl) w1.heap.size (sl kind (zs 25) 0 false).toArray (by rfl) (by rfl) _ _ hR1 (by rw [hsz]; kernel_rfl) (by rw [hsz, hsz0]) (all_oneCell_toArray (sl_one _ _ _ _)) ?_)
      | fail)
    go_ret2
    exact ⟨rfl, (keep_trans hb1 (keep_alloc _ _)).trans ((But.setRow (But.refl w1.heap.size _) _).below hb1.size (by simp; have := hb1.size; omega))⟩
  · have hbig : 16777216 < n := by omega
    go_enter Tryd.func9, Tryd.ntmps9
    go_wp2_with (first
      | (go_at_call 11; refine (hnew _).mono ?_; rintro e w1 ⟨rfl, hb1⟩; have hR1 : (w1.alloc (.cells (sl 0 (zs 25) 0 false).toArray 26)).heap[w1.heap.size]? = some (.cells (sl 0 (zs 25) 0 false).toArray 26 (0, 0)) := heap_alloc_last w1 _)
      | (refine wpList_store_row rfl 26 _ _ (by rfl) w1.heap.size (sl kind (zs 25) 0 false).toArray (by rfl) (by rfl) _ _ hR1 (by rw [hsz]; kernel_rfl) (by rw [hsz, hsz0]) (all_oneCell_toArray (sl_one _ _ _ _)) ?_)
      | fail)
    go_ret2
    exact ⟨rfl, (keep_trans hb1 (keep_alloc _ _)).trans ((But.setRow (But.refl w1.heap.size _) _).below hb1.size (by simp; have := hb1.size; omega))⟩

set_option maxHeartbeats 4000000 in
set_option maxRecDepth 100000 in
theorem ksum_ok (kind : Int) (bv : Value) (b : List Nat) (n : Nat) (w : World) (hr : 0 < rateK kind) (hn : n ≤ 16777216) (hRb : Row .u8 256 w bv b) (hbl : b.length ≤ 1000000) :
    Calls Tryd.prog 9 #[.int .i64 kind, bv, .int .i64 n] w fun e w' => ∃ v, e = .returned (.tuple #[v, .int .i64 0]) ∧ Row .u8 256 w' v (sumK kind b n) ∧ Below w.heap.size w w' := by
  have hz := zero28
  have hnew := fun w' => knew_ok kind w' hr
  have hsz0 : (sl 0 (zs 25) 0 false).toArray.size = 28 := by simp [sl_len (zs_len 25)]
  have hslen := sl_len (kind := kind) (p := 0) (o := false) (zs_len 25)
  have hsz : (sl kind (zs 25) 0 false).toArray.size = 28 := by simp [hslen]
  have habs := fun w' (hb : Below w.heap.size w w') => kabs_any kind (zs 25) 0 bv b w' zs_w hr (hRb.below hb) hbl
  have haw : W25 (absK (rateK kind) (zs 25, 0) b).1 := absK_w b _ zs_w
  have haa : (absK (rateK kind) (zs 25, 0) b).2 < rateK kind := absK_at b _ hr
  have hsq := fun w' => ksqz_any kind (absK (rateK kind) (zs 25, 0) b).1 (absK (rateK kind) (zs 25, 0) b).2 false n w' haw hr (by omega) (fun _ => haa) (by omega)
  have hsum : sqzB (rateK kind) (begK kind (absK (rateK kind) (zs 25, 0) b).1 (absK (rateK kind) (zs 25, 0) b).2 false) n = sumK kind b n := by unfold sumK; with_reducible rfl
  rw [hsum] at hsq
  have hzl := (sqzS_w (rate := rateK kind) (begK_w (kind := kind) (p := (absK (rateK kind) (zs 25, 0) b).2) (o := false) haw) n).1
  generalize sumK kind b n = O at *
  generalize sqzS (rateK kind) (begK kind (absK (rateK kind) (zs 25, 0) b).1 (absK (rateK kind) (zs 25, 0) b).2 false) n = sN at *
  generalize absK (rateK kind) (zs 25, 0) b = sA at *
  have hszN : (sl kind sN.1 (sN.2 : Nat) true).toArray.size = 28 := by simp [sl_len hzl]
  have n0 : ¬ (n : Int) < 0 := by omega
  have n1 : ¬ (16777216 : Int) < (n : Int) := by omega
  clear hsum hzl haa haw hr hRb
  go_enter Tryd.func9, Tryd.ntmps9
  go_wp2_with (first
    | (go_at_call 11; refine (hnew _).mono ?_; rintro e w1 ⟨rfl, hb1⟩; have hR1 : (w1.alloc (.cells (sl 0 (zs 25) 0 false).toArray 26)).heap[w1.heap.size]? = some (.cells (sl 0 (zs 25) 0 false).toArray 26 (0, 0)) := heap_alloc_last w1 _)
    | (refine wpList_store_row rfl 26 _ _ (by rfl) w1.heap.size (sl kind (zs 25) 0 false).toArray (by rfl) (by rfl) _ _ hR1 (by rw [hsz]; kernel_rfl) (by rw [hsz, hsz0]) (all_oneCell_toArray (sl_one _ _ _ _)) ?_; have hfu := setRow_heap (w1.alloc (.cells (sl 0 (zs 25) 0 false).toArray 26)) w1.heap.size _ (sl kind (zs 25) 0 false).toArray 26 _ hR1; have hb2 := (keep_trans hb1 (keep_alloc w1 (.cells (sl 0 (zs 25) 0 false).toArray 26))).trans ((But.setRow (But.refl w1.heap.size (w1.alloc (.cells (sl 0 (zs 25) 0 false).toArray 26))) (sl kind (zs 25) 0 false).toArray).below hb1.size (by simp; have := hb1.size; omega)))
    | (refine wpList_load_row rfl 26 _ (by rfl) w1.heap.size (by rfl) _ _ _ _ hfu Tryd.underlying26 rfl (by rw [hsz]; kernel_rfl) ?_)
    | (go_at_call 18; refine (habs _ hb2).mono ?_; rintro e w3 ⟨rfl, hb3⟩)
    | (go_at_call 20; refine (hsq _).mono ?_; rintro e w4 ⟨v4, rfl, hO4, hb4⟩; have hR4 : (w4.alloc (.cells (sl 0 (zs 25) 0 false).toArray 26)).heap[w4.heap.size]? = some (.cells (sl 0 (zs 25) 0 false).toArray 26 (0, 0)) := heap_alloc_last w4 _)
    | (refine wpList_store_row rfl 26 _ _ (by rfl) w4.heap.size (sl kind sN.1 (sN.2 : Nat) true).toArray (by rfl) (by rfl) _ _ hR4 (by rw [hszN]; kernel_rfl) (by rw [hszN, hsz0]) (all_oneCell_toArray (sl_one _ _ _ _)) ?_)
    | fail)
  go_ret2
  have hb5 := keep_trans (keep_trans hb2 hb3) hb4
  have hB : Below w4.heap.size w4 ((w4.alloc (.cells (sl 0 (zs 25) 0 false).toArray 26)).setRow w4.heap.size (sl kind sN.1 (sN.2 : Nat) true).toArray) := (keep_alloc w4 _).trans ((But.setRow (But.refl w4.heap.size _) _).below (Nat.le_refl _) (by simp))
  exact ⟨_, rfl, hO4.row.below hB, keep_trans hb5 hB⟩
end Go.Proofs.YtnbohjoakngkeaaDoor
