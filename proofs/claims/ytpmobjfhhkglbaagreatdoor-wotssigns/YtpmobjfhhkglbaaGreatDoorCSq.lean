import Derived.Test.YtpmobjfhhkglbaaGreatDoorCEn0
import Derived.Test.YtpmobjfhhkglbaaGreatDoorCEn
import Derived.Test.YtpmobjfhhkglbaaGreatDoorKNw
import Derived.Test.YtpmobjfhhkglbaaGreatDoorCPe
namespace Go.Proofs.YtpmobjfhhkglbaaGreatDoor
open Go.RowKit
set_option linter.unusedVariables false
set_option linter.unusedSimpArgs false
theorem fitK_of {kind : Int} {p : Nat} {o : Bool} (hr : 0 < rateK kind) (hp : p ≤ rateK kind) (ho : o = false → p < rateK kind) : fitK kind p o = true := by
  unfold fitK
  cases o with
  | false =>
    have := ho rfl
    simp only [Bool.and_eq_true, Bool.or_eq_true, decide_eq_true_iff]
    exact ⟨hr, by omega, .inl (by omega)⟩
  | true =>
    simp only [Bool.and_eq_true, Bool.or_eq_true, decide_eq_true_iff, Bool.true_and]
    exact ⟨hr, by omega, by omega⟩
theorem taken_all (kind : Int) (ws : List Nat) (p n : Nat) (w : World) (hT : Csts w) (hw : W25 ws) (hr : 0 < rateK kind) (hp : p ≤ rateK kind) (hn : n ≤ 16777216) :
    Calls Tryz.prog 100 #[.agg (sl kind ws p true).toArray, .int .i64 n] w fun e w' => ∃ v, e = .returned (.tuple #[.agg (sl kind (sqzS (rateK kind) (ws, p) n).1 ((sqzS (rateK kind) (ws, p) n).2 : Nat) true).toArray, v]) ∧ Own 5 .u8 256 w' w.heap.size v (sqzB (rateK kind) (ws, p) n) ∧ Below w.heap.size w w' := by
  by_cases h0 : 0 < n
  · exact taken_any kind ws p n w hT hw hr hp hn h0
  · obtain rfl : n = 0 := by omega
    refine (taken_none kind ws p w hw.1).mono ?_
    rintro e w' ⟨rfl, hb⟩
    exact ⟨_, rfl, own_nil _ _ _ _ _, hb⟩
set_option maxHeartbeats 4000000 in
set_option maxRecDepth 100000 in
theorem csqz_any (kind : Int) (ws : List Nat) (p : Nat) (o : Bool) (n : Nat) (w : World) (hT : Csts w) (hw : W25 ws) (hr : 0 < rateK kind) (hp : p ≤ rateK kind) (ho : o = false → p < rateK kind) (hn : n ≤ 16777216) :
    Calls Tryz.prog 79 #[.agg (sl kind ws p o).toArray, .int .i64 n] w fun e w' => ∃ v, e = .returned (.tuple #[.agg (sl kind (sqzS (rateK kind) (begK kind ws p o) n).1 ((sqzS (rateK kind) (begK kind ws p o) n).2 : Nat) true).toArray, v]) ∧ Own 5 .u8 256 w' w.heap.size v (sqzB (rateK kind) (begK kind ws p o) n) ∧ Below w.heap.size w w' := by
  have hz := zero28
  have hl := hw.1
  have hS : Sg ((w.alloc (.cells (sl kind ws p o).toArray 81)).alloc (.cells (sl 0 (zs 25) 0 false).toArray 81)) w.heap.size kind ws p o := (Sg.new w 81 kind ws p o hl).below (keep_alloc _ _)
  have hA : ((w.alloc (.cells (sl kind ws p o).toArray 81)).alloc (.cells (sl 0 (zs 25) 0 false).toArray 81)).heap[w.heap.size]? = some (.cells (sl kind ws p o).toArray 81 (0, 0)) := ((keep_alloc _ _).block _ (by simp)).trans (heap_alloc_last w _)
  have hR : ((w.alloc (.cells (sl kind ws p o).toArray 81)).alloc (.cells (sl 0 (zs 25) 0 false).toArray 81)).heap[w.heap.size + 1]? = some (.cells (sl 0 (zs 25) 0 false).toArray 81 (0, 0)) := by
    have := heap_alloc_last (w.alloc (.cells (sl kind ws p o).toArray 81)) (.cells (sl 0 (zs 25) 0 false).toArray 81)
    rw [World.size_alloc] at this
    exact this
  have hb := keep_trans (keep_alloc w (.cells (sl kind ws p o).toArray 81)) (keep_alloc _ (.cells (sl 0 (zs 25) 0 false).toArray 81))
  have hll := hS.all
  have hsz : (sl kind ws p o).toArray.size = 28 := by simp [sl_len hl]
  have hsz0 : (sl 0 (zs 25) 0 false).toArray.size = 28 := by simp [sl_len (zs_len 25)]
  have hft := fun w' => cfit_any kind ws p o w' hl
  rw [fitK_of hr hp ho] at hft
  have hW2 : w.heap.size + 1 < ((w.alloc (.cells (sl kind ws p o).toArray 81)).alloc (.cells (sl 0 (zs 25) 0 false).toArray 81)).heap.size := by simp
  have n0 : ¬ (n : Int) < 0 := by omega
  have n1 : ¬ (16777216 : Int) < (n : Int) := by omega
  cases o with
  | true =>
    have hbk : begK kind ws p true = (ws, p) := rfl
    rw [hbk]
    have hsq := fun w' (hT' : Csts w') => taken_all kind ws p n w' hT' hw hr hp hn
    have hzl := (sqzS_w (rate := rateK kind) (s := (ws, p)) hw n).1
    generalize sqzS (rateK kind) (ws, p) n = sN at *
    generalize sqzB (rateK kind) (ws, p) n = O at *
    have hszN : (sl kind sN.1 (sN.2 : Nat) true).toArray.size = 28 := by simp [sl_len hzl]
    go_enter Tryz.func79, Tryz.ntmps79
    go_wp2_with (first
      | (refine wpList_load_mid rfl 81 _ (by rfl) w.heap.size 0 (by rfl) (sl kind ws p true) _ hll Tryz.underlying81 rfl (by rw [sl_len hl]; kernel_rfl) ?_)
      | (go_at_call 96; refine (hft _).mono ?_; rintro e w1 ⟨rfl, hb1⟩; have hS1 := hS.below hb1; have c27 := hS1.out; have hl1 := hS1.all; have hR1 := (hb1.block _ hW2).trans hR; have hbx := keep_trans hb hb1)
      | (refine wpList_load_mid rfl 81 _ (by rfl) w.heap.size 0 (by rfl) (sl kind ws p true) _ hl1 Tryz.underlying81 rfl (by rw [sl_len hl]; kernel_rfl) ?_)
      | (go_at_call 100; refine (hsq _ (hT.below hbx)).mono ?_; rintro e w4 ⟨v4, rfl, hO4, hb4⟩; have hR4 := (hb4.block _ (heap_lt hR1)).trans hR1; have hby := keep_trans hbx hb4)
      | (refine wpList_store_row rfl 81 _ _ (by rfl) (w.heap.size + 1) (sl kind sN.1 (sN.2 : Nat) true).toArray (by rfl) (by rfl) _ _ hR4 (by rw [hszN]; kernel_rfl) (by rw [hszN, hsz0]) (all_oneCell_toArray (sl_one _ _ _ _)) ?_)
      | fail)
    have hfu := setRow_heap w4 (w.heap.size + 1) _ (sl kind sN.1 (sN.2 : Nat) true).toArray 81 _ hR4
    have hB : But (w.heap.size + 1) w4 (w4.setRow (w.heap.size + 1) (sl kind sN.1 (sN.2 : Nat) true).toArray) := But.setRow (But.refl (w.heap.size + 1) _) _
    have hlv := run_loadVar_row (P := Tryz.prog) _ (w.heap.size + 1) _ 81 _ _ _ hfu Tryz.underlying81 rfl (by rw [hszN]; kernel_rfl)
    have hbf := hby.trans (hB.below (by omega) hby.size)
    have hlt1 := heap_lt hR1
    refine bodyPost_ret (v := .tuple #[.agg (sl kind sN.1 (sN.2 : Nat) true).toArray, v4]) ?_ rfl ⟨_, rfl, Own.mono ⟨own_but hO4.1 hB (by omega), hO4.2⟩ (by have := hbx.size; omega), hbf⟩
    simp [results, Tryz.results79, asAddr, hlv]
  | false =>
    have hp2 := ho rfl
    have hbk : begK kind ws p false = (endK (rateK kind) (markK kind) (ws, p), 0) := rfl
    have hew : W25 (endK (rateK kind) (markK kind) (ws, p)) := endK_w (s := (ws, p)) hw
    have hend := fun w' (hT' : Csts w') => ended_any kind ws p w' hT' hw hr hp2
    rw [hbk]
    clear hbk
    generalize endK (rateK kind) (markK kind) (ws, p) = E at *
    have hsq := fun w' (hT' : Csts w') => taken_all kind E 0 n w' hT' hew hr (Nat.zero_le _) hn
    have hzl := (sqzS_w (rate := rateK kind) (s := (E, 0)) hew n).1
    generalize sqzS (rateK kind) (E, 0) n = sN at *
    generalize sqzB (rateK kind) (E, 0) n = O at *
    have hszN : (sl kind sN.1 (sN.2 : Nat) true).toArray.size = 28 := by simp [sl_len hzl]
    have hszE : (sl kind E 0 true).toArray.size = 28 := by simp [sl_len hew.1]
    go_enter Tryz.func79, Tryz.ntmps79
    go_wp2_with (first
      | (refine wpList_load_mid rfl 81 _ (by rfl) w.heap.size 0 (by rfl) (sl kind ws p false) _ hll Tryz.underlying81 rfl (by rw [sl_len hl]; kernel_rfl) ?_)
      | (go_at_call 96; refine (hft _).mono ?_; rintro e w1 ⟨rfl, hb1⟩; have hS1 := hS.below hb1; have c27 := hS1.out; have hl1 := hS1.all; have hA1 := (hb1.block _ (heap_lt hA)).trans hA; have hR1 := (hb1.block _ hW2).trans hR; have hbx := keep_trans hb hb1)
      | (refine wpList_load_mid rfl 81 _ (by rfl) w.heap.size 0 (by rfl) (sl kind ws p false) _ hl1 Tryz.underlying81 rfl (by rw [sl_len hl]; kernel_rfl) ?_)
      | (go_at_call 99; refine (hend _ (hT.below hbx)).mono ?_; rintro e w2 ⟨rfl, hb2⟩; have hA2 := (hb2.block _ (heap_lt hA1)).trans hA1; have hR2 := (hb2.block _ (heap_lt hR1)).trans hR1)
      | (refine wpList_store_row rfl 81 _ _ (by rfl) w.heap.size (sl kind E 0 true).toArray (by rfl) (by rfl) _ _ hA2 (by rw [hszE]; kernel_rfl) (by rw [hszE, hsz]) (all_oneCell_toArray (sl_one _ _ _ _)) ?_; have hA3 := setRow_heap w2 w.heap.size _ (sl kind E 0 true).toArray 81 _ hA2; have hB3 : But w.heap.size w2 (w2.setRow w.heap.size (sl kind E 0 true).toArray) := But.setRow (But.refl _ _) _; have hR3 := (hB3.block _ (heap_lt hR2) (by omega)).trans hR2; have hb3 := (keep_trans hbx hb2).trans (hB3.below (Nat.le_refl _) (keep_trans hbx hb2).size))
      | (refine wpList_load_row rfl 81 _ (by rfl) w.heap.size (by rfl) _ _ _ _ hA3 Tryz.underlying81 rfl (by rw [hszE]; kernel_rfl) ?_)
      | (go_at_call 100; refine (hsq _ (hT.below hb3)).mono ?_; rintro e w4 ⟨v4, rfl, hO4, hb4⟩; have hR4 := (hb4.block _ (heap_lt hR3)).trans hR3; have hby := keep_trans hb3 hb4)
      | (refine wpList_store_row rfl 81 _ _ (by rfl) (w.heap.size + 1) (sl kind sN.1 (sN.2 : Nat) true).toArray (by rfl) (by rfl) _ _ hR4 (by rw [hszN]; kernel_rfl) (by rw [hszN, hsz0]) (all_oneCell_toArray (sl_one _ _ _ _)) ?_)
      | fail)
    have hfu := setRow_heap w4 (w.heap.size + 1) _ (sl kind sN.1 (sN.2 : Nat) true).toArray 81 _ hR4
    have hB : But (w.heap.size + 1) w4 (w4.setRow (w.heap.size + 1) (sl kind sN.1 (sN.2 : Nat) true).toArray) := But.setRow (But.refl (w.heap.size + 1) _) _
    have hlv := run_loadVar_row (P := Tryz.prog) _ (w.heap.size + 1) _ 81 _ _ _ hfu Tryz.underlying81 rfl (by rw [hszN]; kernel_rfl)
    have hbf := hby.trans (hB.below (by omega) hby.size)
    have hlt3 := heap_lt hR3
    refine bodyPost_ret (v := .tuple #[.agg (sl kind sN.1 (sN.2 : Nat) true).toArray, v4]) ?_ rfl ⟨_, rfl, Own.mono ⟨own_but hO4.1 hB (by omega), hO4.2⟩ (by have := hb3.size; omega), hbf⟩
    simp [results, Tryz.results79, asAddr, hlv]
def stK (kind : Int) (P : List Nat) : List Nat × Nat := absK (rateK kind) (zs 25, 0) P
theorem stK_app (kind : Int) (hr : 0 < rateK kind) (P b : List Nat) : absK (rateK kind) (stK kind P) b = stK kind (P ++ b) := by
  unfold stK
  exact (absK_parts _ _ _ _).symm
theorem stK_w (kind : Int) (P : List Nat) : W25 (stK kind P).1 := absK_w P _ zs_w
theorem stK_at {kind : Int} (hr : 0 < rateK kind) (P : List Nat) : (stK kind P).2 < rateK kind := absK_at P _ hr
def spK (kind : Int) (P : List Nat) : Array Value := (sl kind (stK kind P).1 ((stK kind P).2 : Nat) false).toArray
theorem spK_size (kind : Int) (P : List Nat) : (spK kind P).size = 28 := by unfold spK; simp [sl_len (stK_w kind P).1]
theorem spK_one (kind : Int) (P : List Nat) : (spK kind P).all (·.oneCell') = true := all_oneCell_toArray (sl_one _ _ _ _)
theorem spK_abs (kind : Int) (P b : List Nat) (bv : Value) (w : World) (hT : Csts w) (hr : 0 < rateK kind) (hRb : Row .u8 256 w bv b) (hbl : b.length ≤ 1000000) :
    Calls Tryz.prog 77 #[.agg (spK kind P), bv] w fun e w' => e = .returned (.agg (spK kind (P ++ b))) ∧ Below w.heap.size w w' := by
  have h := cabs_any kind (stK kind P).1 (stK kind P).2 bv b w hT (stK_w kind P) (stK_at hr P) hRb hbl
  have e : absK (rateK kind) ((stK kind P).1, (stK kind P).2) b = stK kind (P ++ b) := stK_app kind hr P b
  rw [e] at h
  exact h
def KAt (w : World) (q : Nat) (kind : Int) (P : List Nat) : Prop := w.heap[q]? = some (.cells (spK kind P) 81 (0, 0))
theorem KAt.lt {w : World} {q : Nat} {kind : Int} {P : List Nat} (h : KAt w q kind P) : q < w.heap.size := by
  unfold KAt at h
  rcases Nat.lt_or_ge q w.heap.size with hlt | hge
  · exact hlt
  · rw [Array.getElem?_eq_none hge] at h; cases h
theorem KAt.below {w w' : World} {q : Nat} {kind : Int} {P : List Nat} (h : KAt w q kind P) (hb : Below w.heap.size w w') : KAt w' q kind P := (hb.block q h.lt).trans h
end Go.Proofs.YtpmobjfhhkglbaaGreatDoor
