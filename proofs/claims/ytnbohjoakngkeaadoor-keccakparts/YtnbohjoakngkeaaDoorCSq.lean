/- Contract of keccak.Squeeze. -/
import Derived.Test.YtnbohjoakngkeaaDoorCTk
import Derived.Test.YtnbohjoakngkeaaDoorCEn2
import Derived.Test.YtnbohjoakngkeaaDoorKSm
namespace Go.Proofs.YtnbohjoakngkeaaDoor
open Go.RowKit
set_option linter.unusedVariables false
set_option linter.unusedSimpArgs false

theorem fitK_of {kind : Int} {p : Nat} {o : Bool} (hr : 0 < rateK kind) (hp : p ≤ rateK kind) (ho : o = false → p < rateK kind) : fitK kind p o = true := by
  unfold fitK
  cases o with
  | false =>
    have := ho rfl
    simp only [Bool.and_eq_true, Bool.or_eq_true, decide_eq_true_iff]
    exact ⟨hr, by omega, .inl (by omega)⟩
  | true =>
    simp only [Bool.and_eq_true, Bool.or_eq_true, decide_eq_true_iff, Bool.true_and]
    exact ⟨hr, by omega, by omega⟩
/-- the other way round -/
theorem of_fitK {kind p : Int} {o : Bool} (h : fitK kind p o = true) : ∃ P : Nat, p = (P : Int) ∧ 0 < rateK kind ∧ P ≤ rateK kind ∧ (o = false → P < rateK kind) := by
  unfold fitK at h
  simp only [Bool.and_eq_true, Bool.or_eq_true, decide_eq_true_iff] at h
  obtain ⟨h1, h2, h3⟩ := h
  refine ⟨p.toNat, by omega, h1, by rcases h3 with h3 | ⟨_, h3⟩ <;> omega, fun ho => ?_⟩
  subst ho
  rcases h3 with h3 | ⟨h3, _⟩
  · omega
  · cases h3
theorem taken_all (kind : Int) (ws : List Nat) (p n : Nat) (w : World) (hT : Csts w) (hw : W25 ws) (hr : 0 < rateK kind) (hp : p ≤ rateK kind) (hn : n ≤ 16777216) :
    Calls Tryd.prog 31 #[.agg (sl kind ws p true).toArray, .int .i64 n] w fun e w' => ∃ v, e = .returned (.tuple #[.agg (sl kind (sqzS (rateK kind) (ws, p) n).1 ((sqzS (rateK kind) (ws, p) n).2 : Nat) true).toArray, v]) ∧ Own 5 .u8 256 w' w.heap.size v (sqzB (rateK kind) (ws, p) n) ∧ Below w.heap.size w w' := by
  by_cases h0 : 0 < n
  · exact taken_any kind ws p n w hT hw hr hp hn h0
  · obtain rfl : n = 0 := by omega
    refine (taken_none kind ws p w hw.1).mono ?_
    rintro e w' ⟨rfl, hb⟩
    exact ⟨_, rfl, own_nil _ _ _ _ _, hb⟩
set_option maxHeartbeats 4000000 in
set_option maxRecDepth 100000 in
theorem csqz_neg (kind : Int) (ws : List Nat) (p : Int) (o : Bool) (n : Int) (w : World) (hl : ws.length = 25) (hf : fitK kind p o = true) (hn : n < 0) :
    Calls Tryd.prog 19 #[.agg (sl kind ws p o).toArray, .int .i64 n] w fun e w' => e = .returned (.tuple #[.agg (sl kind ws p o).toArray, .slice none 0 0]) ∧ Below w.heap.size w w' := by
  have hz := zero28
  have hS : Sg ((w.alloc (.cells (sl kind ws p o).toArray 26)).alloc (.cells (sl 0 (zs 25) 0 false).toArray 26)) w.heap.size kind ws p o := (Sg.new w 26 kind ws p o hl).below (keep_alloc _ _)
  have hR : ((w.alloc (.cells (sl kind ws p o).toArray 26)).alloc (.cells (sl 0 (zs 25) 0 false).toArray 26)).heap[w.heap.size + 1]? = some (.cells (sl 0 (zs 25) 0 false).toArray 26 (0, 0)) := by
    have := heap_alloc_last (w.alloc (.cells (sl kind ws p o).toArray 26)) (.cells (sl 0 (zs 25) 0 false).toArray 26)
    rw [World.size_alloc] at this
    exact this
  have hb := keep_trans (keep_alloc w (.cells (sl kind ws p o).toArray 26)) (keep_alloc _ (.cells (sl 0 (zs 25) 0 false).toArray 26))
  have hll := hS.all
  have hsz : (sl kind ws p o).toArray.size = 28 := by simp [sl_len hl]
  have hsz0 : (sl 0 (zs 25) 0 false).toArray.size = 28 := by simp [sl_len (zs_len 25)]
  have hft := fun w' => cfit_any kind ws p o w' hl
  rw [hf] at hft
  have hW2 : w.heap.size + 1 < ((w.alloc (.cells (sl kind ws p o).toArray 26)).alloc (.cells (sl 0 (zs 25) 0 false).toArray 26)).heap.size := by simp
  go_enter Tryd.func19, Tryd.ntmps19
  go_wp2_with (first
    | (refine wpList_load_mid rfl 26 _ (by rfl) w.heap.size 0 (by rfl) (sl kind ws p o) _ hll Tryd.underlying26 rfl (by rw [sl_len hl]; kernel_rfl) ?_)
    | (go_at_call 15; refine (hft _).mono ?_; rintro e w1 ⟨rfl, hb1⟩; have hS1 := hS.below hb1; have hl1 := hS1.all; have hR1 := (hb1.block _ hW2).trans hR; have hbx := keep_trans hb hb1)
    | (refine wpList_load_mid rfl 26 _ (by rfl) w.heap.size 0 (by rfl) (sl kind ws p o) _ hl1 Tryd.underlying26 rfl (by rw [sl_len hl]; kernel_rfl) ?_)
    | (refine wpList_store_row rfl 26 _ _ (by rfl) (w.heap.size + 1) (sl kind ws p o).toArray (by rfl) (by rfl) _ _ hR1 (by rw [hsz]; kernel_rfl) (by rw [hsz, hsz0]) (all_oneCell_toArray (sl_one _ _ _ _)) ?_)
    | fail)
  have hfu := setRow_heap w1 (w.heap.size + 1) _ (sl kind ws p o).toArray 26 _ hR1
  have hlv := run_loadVar_row (P := Tryd.prog) _ (w.heap.size + 1) _ 26 _ _ _ hfu Tryd.underlying26 rfl (by rw [hsz]; kernel_rfl)
  have hbf := hbx.trans ((But.setRow (But.refl (w.heap.size + 1) _) (sl kind ws p o).toArray).below (by omega) hbx.size)
  refine bodyPost_ret (v := .tuple #[.agg (sl kind ws p o).toArray, .slice none 0 0]) ?_ rfl ⟨rfl, hbf⟩
  simp [results, Tryd.results19, asAddr, hlv]
set_option maxHeartbeats 4000000 in
set_option maxRecDepth 100000 in
theorem csqz_any (kind : Int) (ws : List Nat) (p : Nat) (o : Bool) (n : Nat) (w : World) (hT : Csts w) (hw : W25 ws) (hr : 0 < rateK kind) (hp : p ≤ rateK kind) (ho : o = false → p < rateK kind) (hn : n ≤ 16777216) :
    Calls Tryd.prog 19 #[.agg (sl kind ws p o).toArray, .int .i64 n] w fun e w' => ∃ v, e = .returned (.tuple #[.agg (sl kind (sqzS (rateK kind) (begK kind ws p o) n).1 ((sqzS (rateK kind) (begK kind ws p o) n).2 : Nat) true).toArray, v]) ∧ Own 5 .u8 256 w' w.heap.size v (sqzB (rateK kind) (begK kind ws p o) n) ∧ Below w.heap.size w w' := by
  have hz := zero28
  have hl := hw.1
  have hS : Sg ((w.alloc (.cells (sl kind ws p o).toArray 26)).alloc (.cells (sl 0 (zs 25) 0 false).toArray 26)) w.heap.size kind ws p o := (Sg.new w 26 kind ws p o hl).below (keep_alloc _ _)
  have hA : ((w.alloc (.cells (sl kind ws p o).toArray 26)).alloc (.cells (sl 0 (zs 25) 0 false).toArray 26)).heap[w.heap.size]? = some (.cells (sl kind ws p o).toArray 26 (0, 0)) := ((keep_alloc _ _).block _ (by simp)).trans (heap_alloc_last w _)
  have hR : ((w.alloc (.cells (sl kind ws p o).toArray 26)).alloc (.cells (sl 0 (zs 25) 0 false).toArray 26)).heap[w.heap.size + 1]? = some (.cells (sl 0 (zs 25) 0 false).toArray 26 (0, 0)) := by
    have := heap_alloc_last (w.alloc (.cells (sl kind ws p o).toArray 26)) (.cells (sl 0 (zs 25) 0 false).toArray 26)
    rw [World.size_alloc] at this
    exact this
  have hb := keep_trans (keep_alloc w (.cells (sl kind ws p o).toArray 26)) (keep_alloc _ (.cells (sl 0 (zs 25) 0 false).toArray 26))
  have hll := hS.all
  have hsz : (sl kind ws p o).toArray.size = 28 := by simp [sl_len hl]
  have hsz0 : (sl 0 (zs 25) 0 false).toArray.size = 28 := by simp [sl_len (zs_len 25)]
  have hft := fun w' => cfit_any kind ws p o w' hl
  rw [fitK_of hr hp ho] at hft
  have hW2 : w.heap.size + 1 < ((w.alloc (.cells (sl kind ws p o).toArray 26)).alloc (.cells (sl 0 (zs 25) 0 false).toArray 26)).heap.size := by simp
  have n0 : ¬ (n : Int) < 0 := by omega
  have n1 : ¬ (16777216 : Int) < (n : Int) := by omega
  cases o with
  | true =>
    have hbk : begK kind ws p true = (ws, p) := rfl
    rw [hbk]
    have hsq := fun w' (hT' : Csts w') => taken_all kind ws p n w' hT' hw hr hp hn
    have hzl := (sqzS_w (rate := rateK kind) (s := (ws, p)) hw n).1
    generalize sqzS (rateK kind) (ws, p) n = sN at *
    generalize sqzB (rateK kind) (ws, p) n = O at *
    have hszN : (sl kind sN.1 (sN.2 : Nat) true).toArray.size = 28 := by simp [sl_len hzl]
    go_enter Tryd.func19, Tryd.ntmps19
    go_wp2_with (first
      | (refine wpList_load_mid rfl 26 _ (by rfl) w.heap.size 0 (by rfl) (sl kind ws p true) _ hll Tryd.underlying26 rfl (by rw [sl_len hl]; kernel_rfl) ?_)
      | (go_at_call 15; refine (hft _).mono ?_; rintro e w1 ⟨rfl, hb1⟩; have hS1 := hS.below hb1; have c27 := hS1.out; have hl1 := hS1.all; have hR1 := (hb1.block _ hW2).trans hR; have hbx := keep_trans hb hb1)
      | (refine wpList_load_mid rfl 26 _ (by rfl) w.heap.size 0 (by rfl) (sl kind ws p true) _ hl1 Tryd.underlying26 rfl (by rw [sl_len hl]; kernel_rfl) ?_)
      | (go_at_call 31; refine (hsq _ (hT.below hbx)).mono ?_; rintro e w4 ⟨v4, rfl, hO4, hb4⟩; have hR4 := (hb4.block _ (heap_lt hR1)).trans hR1; have hby := keep_trans hbx hb4)
      | (refine wpList_store_row rfl 26 _ _ (by rfl) (w.heap.size + 1) (sl kind sN.1 (sN.2 : Nat) true).toArray (by rfl) (by rfl) _ _ hR4 (by rw [hszN]; kernel_rfl) (by rw [hszN, hsz0]) (all_oneCell_toArray (sl_one _ _ _ _)) ?_)
      | fail)
    have hfu := setRow_heap w4 (w.heap.size + 1) _ (sl kind sN.1 (sN.2 : Nat) true).toArray 26 _ hR4
    have hB : But (w.heap.size + 1) w4 (w4.setRow (w.heap.size + 1) (sl kind sN.1 (sN.2 : Nat) true).toArray) := But.setRow (But.refl (w.heap.size + 1) _) _
    have hlv := run_loadVar_row (P := Tryd.prog) _ (w.heap.size + 1) _ 26 _ _ _ hfu Tryd.underlying26 rfl (by rw [hszN]; kernel_rfl)
    have hbf := hby.trans (hB.below (by omega) hby.size)
    have hlt1 := heap_lt hR1
    refine bodyPost_ret (v := .tuple #[.agg (sl kind sN.1 (sN.2 : Nat) true).toArray, v4]) ?_ rfl ⟨_, rfl, Own.mono ⟨own_but hO4.1 hB (by omega), hO4.2⟩ (by have := hbx.size; omega), hbf⟩
    simp [results, Tryd.results19, asAddr, hlv]
  | false =>
    have hp2 := ho rfl
    have hbk : begK kind ws p false = (endK (rateK kind) (markK kind) (ws, p), 0) := rfl
    have hew : W25 (endK (rateK kind) (markK kind) (ws, p)) := endK_w (s := (ws, p)) hw
    have hend := fun w' (hT' : Csts w') => ended_any kind ws p w' hT' hw hr hp2
    rw [hbk]
    clear hbk
    generalize endK (rateK kind) (markK kind) (ws, p) = E at *
    have hsq := fun w' (hT' : Csts w') => taken_all kind E 0 n w' hT' hew hr (Nat.zero_le _) hn
    have hzl := (sqzS_w (rate := rateK kind) (s := (E, 0)) hew n).1
    generalize sqzS (rateK kind) (E, 0) n = sN at *
    generalize sqzB (rateK kind) (E, 0) n = O at *
    have hszN : (sl kind sN.1 (sN.2 : Nat) true).toArray.size = 28 := by simp [sl_len hzl]
    have hszE : (sl kind E 0 true).toArray.size = 28 := by simp [sl_len hew.1]
    go_enter Tryd.func19, Tryd.ntmps19
    go_wp2_with (first
      | (refine wpList_load_mid rfl 26 _ (by rfl) w.heap.size 0 (by rfl) (sl kind ws p false) _ hll Tryd.underlying26 rfl (by rw [sl_len hl]; kernel_rfl) ?_)
      | (go_at_call 15; refine (hft _).mono ?_; rintro e w1 ⟨rfl, hb1⟩; have hS1 := hS.below hb1; have c27 := hS1.out; have hl1 := hS1.all; have hA1 := (hb1.block _ (heap_lt hA)).trans hA; have hR1 := (hb1.block _ hW2).trans hR; have hbx := keep_trans hb hb1)
      | (refine wpList_load_mid rfl 26 _ (by rfl) w.heap.size 0 (by rfl) (sl kind ws p false) _ hl1 Tryd.underlying26 rfl (by rw [sl_len hl]; kernel_rfl) ?_)
      | (go_at_call 30; refine (hend _ (hT.below hbx)).mono ?_; rintro e w2 ⟨rfl, hb2⟩; have hA2 := (hb2.block _ (heap_lt hA1)).trans hA1; have hR2 := (hb2.block _ (heap_lt hR1)).trans hR1)
      | (refine wpList_store_row rfl 26 _ _ (by rfl) w.heap.size (sl kind E 0 true).toArray (by rfl) (by rfl) _ _ hA2 (by rw [hszE]; kernel_rfl) (by rw [hszE, hsz]) (all_oneCell_toArray (sl_one _ _ _ _)) ?_; have hA3 := setRow_heap w2 w.heap.size _ (sl kind E 0 true).toArray 26 _ hA2; have hB3 : But w.heap.size w2 (w2.setRow w.heap.size (sl kind E 0 true).toArray) := But.setRow (But.refl _ _) _; have hR3 := (hB3.block _ (heap_lt hR2) (by omega)).trans hR2; have hb3 := (keep_trans hbx hb2).trans (hB3.below (Nat.le_refl _) (keep_trans hbx hb2).size))
      | (refine wpList_load_row rfl 26 _ (by rfl) w.heap.size (by rfl) _ _ _ _ hA3 Tryd.underlying26 rfl (by rw [hszE]; kernel_rfl) ?_)
      | (go_at_call 31; refine (hsq _ (hT.below hb3)).mono ?_; rintro e w4 ⟨v4, rfl, hO4, hb4⟩; have hR4 := (hb4.block _ (heap_lt hR3)).trans hR3; have hby := keep_trans hb3 hb4)
      | (refine wpList_store_row rfl 26 _ _ (by rfl) (w.heap.size + 1) (sl kind sN.1 (sN.2 : Nat) true).toArray (by rfl) (by rfl) _ _ hR4 (by rw [hszN]; kernel_rfl) (by rw [hszN, hsz0]) (all_oneCell_toArray (sl_one _ _ _ _)) ?_)
      | fail)
    have hfu := setRow_heap w4 (w.heap.size + 1) _ (sl kind sN.1 (sN.2 : Nat) true).toArray 26 _ hR4
    have hB : But (w.heap.size + 1) w4 (w4.setRow (w.heap.size + 1) (sl kind sN.1 (sN.2 : Nat) true).toArray) := But.setRow (But.refl (w.heap.size + 1) _) _
    have hlv := run_loadVar_row (P := Tryd.prog) _ (w.heap.size + 1) _ 26 _ _ _ hfu Tryd.underlying26 rfl (by rw [hszN]; kernel_rfl)
    have hbf := hby.trans (hB.below (by omega) hby.size)
    have hlt3 := heap_lt hR3
    refine bodyPost_ret (v := .tuple #[.agg (sl kind sN.1 (sN.2 : Nat) true).toArray, v4]) ?_ rfl ⟨_, rfl, Own.mono ⟨own_but hO4.1 hB (by omega), hO4.2⟩ (by have := hb3.size; omega), hbf⟩
    simp [results, Tryd.results19, asAddr, hlv]
end Go.Proofs.YtnbohjoakngkeaaDoor
