/- Contract of keccak.Squeeze. -/
import Derived.Test.YtejlmgbmfeacdaaDoorCTk
import Derived.Test.YtejlmgbmfeacdaaDoorCEn2
import Derived.Test.YtejlmgbmfeacdaaDoorKSg
import Derived.Test.YtejlmgbmfeacdaaDoorCAb
namespace Go.Proofs.YtejlmgbmfeacdaaDoor
open Go.RowKit
set_option linter.unusedVariables false
set_option linter.unusedSimpArgs false

theorem fitK_of {kind : Int} {p : Nat} {o : Bool} (hr : 0 < rateK kind) (hp : p ≤ rateK kind) (ho : o = false → p < rateK kind) : fitK kind p o = true := by
  unfold fitK
  cases o with
  | false =>
    have := ho rfl
    simp only [Bool.and_eq_true, Bool.or_eq_true, decide_eq_true_iff]
    exact ⟨hr, by omega, .inl (by omega)⟩
  | true =>
    simp only [Bool.and_eq_true, Bool.or_eq_true, decide_eq_true_iff, Bool.true_and]
    exact ⟨hr, by omega, by omega⟩
/-- the other way round -/
theorem of_fitK {kind p : Int} {o : Bool} (h : fitK kind p o = true) : ∃ P : Nat, p = (P : Int) ∧ 0 < rateK kind ∧ P ≤ rateK kind ∧ (o = false → P < rateK kind) := by
  unfold fitK at h
  simp only [Bool.and_eq_true, Bool.or_eq_true, decide_eq_true_iff] at h
  obtain ⟨h1, h2, h3⟩ := h
  refine ⟨p.toNat, by omega, h1, by rcases h3 with h3 | ⟨_, h3⟩ <;> omega, fun ho => ?_⟩
  subst ho
  rcases h3 with h3 | ⟨h3, _⟩
  · omega
  · cases h3
theorem taken_all (kind : Int) (ws : List Nat) (p n : Nat) (w : World) (hT : Csts w) (hw : W25 ws) (hr : 0 < rateK kind) (hp : p ≤ rateK kind) (hn : n ≤ 16777216) :
    Calls Tryd.prog 47 #[.agg (sl kind ws p true).toArray, .int .i64 n] w fun e w' => ∃ v, e = .returned (.tuple #[.agg (sl kind (sqzS (rateK kind) (ws, p) n).1 ((sqzS (rateK kind) (ws, p) n).2 : Nat) true).toArray, v]) ∧ Own 5 .u8 256 w' w.heap.size v (sqzB (rateK kind) (ws, p) n) ∧ Below w.heap.size w w' := by
  by_cases h0 : 0 < n
  · exact taken_any kind ws p n w hT hw hr hp hn h0
  · obtain rfl : n = 0 := by omega
    refine (taken_none kind ws p w hw.1).mono ?_
    rintro e w' ⟨rfl, hb⟩
    exact ⟨_, rfl, own_nil _ _ _ _ _, hb⟩
set_option maxHeartbeats 4000000 in
set_option maxRecDepth 100000 in
theorem csqz_neg (kind : Int) (ws : List Nat) (p : Int) (o : Bool) (n : Int) (w : World) (hl : ws.length = 25) (hf : fitK kind p o = true) (hn : n < 0) :
    Calls Tryd.prog 32 #[.agg (sl kind ws p o).toArray, .int .i64 n] w fun e w' => e = .returned (.tuple #[.agg (sl kind ws p o).toArray, .slice none 0 0]) ∧ Below w.heap.size w w' := by
  have hz := zero28
  have hS : Sg ((w.alloc (.cells (sl kind ws p o).toArray 55)).alloc (.cells (sl 0 (zs 25) 0 false).toArray 55)) w.heap.size kind ws p o := (Sg.new w 55 kind ws p o hl).below (keep_alloc _ _)
  have hR : ((w.alloc (.cells (sl kind ws p o).toArray 55)).alloc (.cells (sl 0 (zs 25) 0 false).toArray 55)).heap[w.heap.size + 1]? = some (.cells (sl 0 (zs 25) 0 false).toArray 55 (0, 0)) := by
    have := heap_alloc_last (w.alloc (.cells (sl kind ws p o).toArray 55)) (.cells (sl 0 (zs 25) 0 false).toArray 55)
    rw [World.size_alloc] at this
    exact this
  have hb := keep_trans (keep_alloc w (.cells (sl kind ws p o).toArray 55)) (keep_alloc _ (.cells (sl 0 (zs 25) 0 false).toArray 55))
  have hll := hS.all
  have hsz : (sl kind ws p o).toArray.size = 28 := by simp [sl_len hl]
  have hsz0 : (sl 0 (zs 25) 0 false).toArray.size = 28 := by simp [sl_len (zs_len 25)]
  have hft := fun w' => cfit_any kind ws p o w' hl
  rw [hf] at hft
  have hW2 : w.heap.size + 1 < ((w.alloc (.cells (sl kind ws p o).toArray 55)).alloc (.cells (sl 0 (zs 25) 0 false).toArray 55)).heap.size := by simp
  go_enter Tryd.func32, Tryd.ntmps32
  go_wp2_with (first
    | (refine wpList_load_mid rfl 55 _ (by rfl) w.heap.size 0 (by rfl) (sl kind ws p o) _ hll Tryd.underlying55 rfl (by rw [sl_len hl]; kernel_rfl) ?_)
    | (go_at_call 45; refine (hft _).mono ?_; rintro e w1 ⟨rfl, hb1⟩; have hS1 := hS.below hb1; have hl1 := hS1.all; have hR1 := (hb1.block _ hW2).trans hR; have hbx := keep_trans hb hb1)
    | (refine wpList_load_mid rfl 55 _ (by rfl) w.heap.size 0 (by rfl) (sl kind ws p o) _ hl1 Tryd.underlying55 rfl (by rw [sl_len hl]; kernel_rfl) ?_)
    | (refine wpList_store_row rfl 55 _ _ (by rfl) (w.heap.size + 1) (sl kind ws p o).toArray (by rfl) (by rfl) _ _ hR1 (by rw [hsz]; kernel_rfl) (by rw [hsz, hsz0]) (all_oneCell_toArray (sl_one _ _ _ _)) ?_)
    | fail)
  have hfu := setRow_heap w1 (w.heap.size + 1) _ (sl kind ws p o).toArray 55 _ hR1
  have hlv := run_loadVar_row (P := Tryd.prog) _ (w.heap.size + 1) _ 55 _ _ _ hfu Tryd.underlying55 rfl (by rw [hsz]; kernel_rfl)
  have hbf := hbx.trans ((But.setRow (But.refl (w.heap.size + 1) _) (sl kind ws p o).toArray).below (by omega) hbx.size)
  refine bodyPost_ret (v := .tuple #[.agg (sl kind ws p o).toArray, .slice none 0 0]) ?_ rfl ⟨rfl, hbf⟩
  simp [results, Tryd.results32, asAddr, hlv]
set_option maxHeartbeats 4000000 in
set_option maxRecDepth 100000 in
theorem csqz_any (kind : Int) (ws : List Nat) (p : Nat) (o : Bool) (n : Nat) (w : World) (hT : Csts w) (hw : W25 ws) (hr : 0 < rateK kind) (hp : p ≤ rateK kind) (ho : o = false → p < rateK kind) (hn : n ≤ 16777216) :
    Calls Tryd.prog 32 #[.agg (sl kind ws p o).toArray, .int .i64 n] w fun e w' => ∃ v, e = .returned (.tuple #[.agg (sl kind (sqzS (rateK kind) (begK kind ws p o) n).1 ((sqzS (rateK kind) (begK kind ws p o) n).2 : Nat) true).toArray, v]) ∧ Own 5 .u8 256 w' w.heap.size v (sqzB (rateK kind) (begK kind ws p o) n) ∧ Below w.heap.size w w' := by
  have hz := zero28
  have hl := hw.1
  have hS : Sg ((w.alloc (.cells (sl kind ws p o).toArray 55)).alloc (.cells (sl 0 (zs 25) 0 false).toArray 55)) w.heap.size kind ws p o := (Sg.new w 55 kind ws p o hl).below (keep_alloc _ _)
  have hA : ((w.alloc (.cells (sl kind ws p o).toArray 55)).alloc (.cells (sl 0 (zs 25) 0 false).toArray 55)).heap[w.heap.size]? = some (.cells (sl kind ws p o).toArray 55 (0, 0)) := ((keep_alloc _ _).block _ (by simp)).trans (heap_alloc_last w _)
  have hR : ((w.alloc (.cells (sl kind ws p o).toArray 55)).alloc (.cells (sl 0 (zs 25) 0 false).toArray 55)).heap[w.heap.size + 1]? = some (.cells (sl 0 (zs 25) 0 false).toArray 55 (0, 0)) := by
    have := heap_alloc_last (w.alloc (.cells (sl kind ws p o).toArray 55)) (.cells (sl 0 (zs 25) 0 false).toArray 55)
    rw [World.size_alloc] at this
    exact this
  have hb := keep_trans (keep_alloc w (.cells (sl kind ws p o).toArray 55)) (keep_alloc _ (.cells (sl 0 (zs 25) 0 false).toArray 55))
  have hll := hS.all
  have hsz : (sl kind ws p o).toArray.size = 28 := by simp [sl_len hl]
  have hsz0 : (sl 0 (zs 25) 0 false).toArray.size = 28 := by simp [sl_len (zs_len 25)]
  have hft := fun w' => cfit_any kind ws p o w' hl
  rw [fitK_of hr hp ho] at hft
  have hW2 : w.heap.size + 1 < ((w.alloc (.cells (sl kind ws p o).toArray 55)).alloc (.cells (sl 0 (zs 25) 0 false).toArray 55)).heap.size := by simp
  have n0 : ¬ (n : Int) < 0 := by omega
  have n1 : ¬ (16777216 : Int) < (n : Int) := by omega
  cases o with
  | true =>
    have hbk : begK kind ws p true = (ws, p) := rfl
    rw [hbk]
    have hsq := fun w' (hT' : Csts w') => taken_all kind ws p n w' hT' hw hr hp hn
    have hzl := (sqzS_w (rate := rateK kind) (s := (ws, p)) hw n).1
    generalize sqzS (rateK kind) (ws, p) n = sN at *
    generalize sqzB (rateK kind) (ws, p) n = O at *
    have hszN : (sl kind sN.1 (sN.2 : Nat) true).toArray.size = 28 := by simp [sl_len hzl]
    go_enter Tryd.func32, Tryd.ntmps32
    go_wp2_with (first
      | (refine wpList_load_mid rfl 55 _ (by rfl) w.heap.size 0 (by rfl) (sl kind ws p true) _ hll Tryd.underlying55 rfl (by rw [sl_len hl]; kernel_rfl) ?_)
      | (go_at_call 45; refine (hft _).mono ?_; rintro e w1 ⟨rfl, hb1⟩; have hS1 := hS.below hb1; have c27 := hS1.out; have hl1 := hS1.all; have hR1 := (hb1.block _ hW2).trans hR; have hbx := keep_trans hb hb1)
      | (refine wpList_load_mid rfl 55 _ (by rfl) w.heap.size 0 (by rfl) (sl kind ws p true) _ hl1 Tryd.underlying55 rfl (by rw [sl_len hl]; kernel_rfl) ?_)
      | (go_at_call 47; refine (hsq _ (hT.below hbx)).mono ?_; rintro e w4 ⟨v4, rfl, hO4, hb4⟩; have hR4 := (hb4.block _ (heap_lt hR1)).trans hR1; have hby := keep_trans hbx hb4)
      | (refine wpList_store_row rfl 55 _ _ (by rfl) (w.heap.size + 1) (sl kind sN.1 (sN.2 : Nat) true).toArray (by rfl) (by rfl) _ _ hR4 (by rw [hszN]; kernel_rfl) (by rw [hszN, hsz0]) (all_oneCell_toArray (sl_one _ _ _ _)) ?_)
      | fail)
    have hfu := setRow_heap w4 (w.heap.size + 1) _ (sl kind sN.1 (sN.2 : Nat) true).toArray 55 _ hR4
    have hB : But (w.heap.size + 1) w4 (w4.setRow (w.heap.size + 1) (sl kind sN.1 (sN.2 : Nat) true).toArray) := But.setRow (But.refl (w.heap.size + 1) _) _
    have hlv := run_loadVar_row (P := Tryd.prog) _ (w.heap.size + 1) _ 55 _ _ _ hfu Tryd.underlying55 rfl (by rw [hszN]; kernel_rfl)
    have hbf := hby.trans (hB.below (by omega) hby.size)
    have hlt1 := heap_lt hR1
    refine bodyPost_ret (v := .tuple #[.agg (sl kind sN.1 (sN.2 : Nat) true).toArray, v4]) ?_ rfl ⟨_, rfl, Own.mono ⟨own_but hO4.1 hB (by omega), hO4.2⟩ (by have := hbx.size; omega), hbf⟩
    simp [results, Tryd.results32, asAddr, hlv]
  | false =>
    have hp2 := ho rfl
    have hbk : begK kind ws p false = (endK (rateK kind) (markK kind) (ws, p), 0) := rfl
    have hew : W25 (endK (rateK kind) (markK kind) (ws, p)) := endK_w (s := (ws, p)) hw
    have hend := fun w' (hT' : Csts w') => ended_any kind ws p w' hT' hw hr hp2
    rw [hbk]
    clear hbk
    generalize endK (rateK kind) (markK kind) (ws, p) = E at *
    have hsq := fun w' (hT' : Csts w') => taken_all kind E 0 n w' hT' hew hr (Nat.zero_le _) hn
    have hzl := (sqzS_w (rate := rateK kind) (s := (E, 0)) hew n).1
    generalize sqzS (rateK kind) (E, 0) n = sN at *
    generalize sqzB (rateK kind) (E, 0) n = O at *
    have hszN : (sl kind sN.1 (sN.2 : Nat) true).toArray.size = 28 := by simp [sl_len hzl]
    have hszE : (sl kind E 0 true).toArray.size = 28 := by simp [sl_len hew.1]
    go_enter Tryd.func32, Tryd.ntmps32
    go_wp2_with (first
      | (refine wpList_load_mid rfl 55 _ (by rfl) w.heap.size 0 (by rfl) (sl kind ws p false) _ hll Tryd.underlying55 rfl (by rw [sl_len hl]; kernel_rfl) ?_)
      | (go_at_call 45; refine (hft _).mono ?_; rintro e w1 ⟨rfl, hb1⟩; have hS1 := hS.below hb1; have c27 := hS1.out; have hl1 := hS1.all; have hA1 := (hb1.block _ (heap_lt hA)).trans hA; have hR1 := (hb1.block _ hW2).trans hR; have hbx := keep_trans hb hb1)
      | (refine wpList_load_mid rfl 55 _ (by rfl) w.heap.size 0 (by rfl) (sl kind ws p false) _ hl1 Tryd.underlying55 rfl (by rw [sl_len hl]; kernel_rfl) ?_)
      | (go_at_call 46; refine (hend _ (hT.below hbx)).mono ?_; rintro e w2 ⟨rfl, hb2⟩; have hA2 := (hb2.block _ (heap_lt hA1)).trans hA1; have hR2 := (hb2.block _ (heap_lt hR1)).trans hR1)
      | (refine wpList_store_row rfl 55 _ _ (by rfl) w.heap.size (sl kind E 0 true).toArray (by rfl) (by rfl) _ _ hA2 (by rw [hszE]; kernel_rfl) (by rw [hszE, hsz]) (all_oneCell_toArray (sl_one _ _ _ _)) ?_; have hA3 := setRow_heap w2 w.heap.size _ (sl kind E 0 true).toArray 55 _ hA2; have hB3 : But w.heap.size w2 (w2.setRow w.heap.size (sl kind E 0 true).toArray) := But.setRow (But.refl _ _) _; have hR3 := (hB3.block _ (heap_lt hR2) (by omega)).trans hR2; have hb3 := (keep_trans hbx hb2).trans (hB3.below (Nat.le_refl _) (keep_trans hbx hb2).size))
      | (refine wpList_load_row rfl 55 _ (by rfl) w.heap.size (by rfl) _ _ _ _ hA3 Tryd.underlying55 rfl (by rw [hszE]; kernel_rfl) ?_)
      | (go_at_call 47; refine (hsq _ (hT.below hb3)).mono ?_; rintro e w4 ⟨v4, rfl, hO4, hb4⟩; have hR4 := (hb4.block _ (heap_lt hR3)).trans hR3; have hby := keep_trans hb3 hb4)
      | (refine wpList_store_row rfl 55 _ _ (by rfl) (w.heap.size + 1) (sl kind sN.1 (sN.2 : Nat) true).toArray (by rfl) (by rfl) _ _ hR4 (by rw [hszN]; kernel_rfl) (by rw [hszN, hsz0]) (all_oneCell_toArray (sl_one _ _ _ _)) ?_)
      | fail)
    have hfu := setRow_heap w4 (w.heap.size + 1) _ (sl kind sN.1 (sN.2 : Nat) true).toArray 55 _ hR4
    have hB : But (w.heap.size + 1) w4 (w4.setRow (w.heap.size + 1) (sl kind sN.1 (sN.2 : Nat) true).toArray) := But.setRow (But.refl (w.heap.size + 1) _) _
    have hlv := run_loadVar_row (P := Tryd.prog) _ (w.heap.size + 1) _ 55 _ _ _ hfu Tryd.underlying55 rfl (by rw [hszN]; kernel_rfl)
    have hbf := hby.trans (hB.below (by omega) hby.size)
    have hlt3 := heap_lt hR3
    refine bodyPost_ret (v := .tuple #[.agg (sl kind sN.1 (sN.2 : Nat) true).toArray, v4]) ?_ rfl ⟨_, rfl, Own.mono ⟨own_but hO4.1 hB (by omega), hO4.2⟩ (by have := hb3.size; omega), hbf⟩
    simp [results, Tryd.results32, asAddr, hlv]
end Go.Proofs.YtejlmgbmfeacdaaDoor

/- mac's absorbed: a sum of keccak with texts more. -/
namespace Go.Proofs.YtejlmgbmfeacdaaDoor
open Go.RowKit
set_option linter.unusedVariables false
set_option linter.unusedSimpArgs false

/-- what stands behind the bytes P -/
def stK (kind : Int) (P : List Nat) : List Nat × Nat := absK (rateK kind) (zs 25, 0) P
theorem stK_app (kind : Int) (hr : 0 < rateK kind) (P b : List Nat) : absK (rateK kind) (stK kind P) b = stK kind (P ++ b) := by
  unfold stK
  exact (absK_parts _ _ _ _).symm
theorem stK_w (kind : Int) (P : List Nat) : W25 (stK kind P).1 := absK_w P _ zs_w
theorem stK_at {kind : Int} (hr : 0 < rateK kind) (P : List Nat) : (stK kind P).2 < rateK kind := absK_at P _ hr
/-- a sponge behind the bytes P, as cells -/
def spK (kind : Int) (P : List Nat) : Array Value := (sl kind (stK kind P).1 ((stK kind P).2 : Nat) false).toArray
theorem spK_size (kind : Int) (P : List Nat) : (spK kind P).size = 28 := by unfold spK; simp [sl_len (stK_w kind P).1]
theorem spK_one (kind : Int) (P : List Nat) : (spK kind P).all (·.oneCell') = true := all_oneCell_toArray (sl_one _ _ _ _)
theorem spK_abs (kind : Int) (P b : List Nat) (bv : Value) (w : World) (hT : Csts w) (hr : 0 < rateK kind) (hRb : Row .u8 256 w bv b) (hbl : b.length ≤ 1000000) :
    Calls Tryd.prog 44 #[.agg (spK kind P), bv] w fun e w' => e = .returned (.agg (spK kind (P ++ b))) ∧ Below w.heap.size w w' := by
  have h := cabs_any kind (stK kind P).1 (stK kind P).2 bv b w hT (stK_w kind P) (stK_at hr P) hRb hbl
  have e : absK (rateK kind) ((stK kind P).1, (stK kind P).2) b = stK kind (P ++ b) := stK_app kind hr P b
  rw [e] at h
  exact h
/-- it lies in block q -/
def KAt (w : World) (q : Nat) (kind : Int) (P : List Nat) : Prop := w.heap[q]? = some (.cells (spK kind P) 55 (0, 0))
theorem KAt.lt {w : World} {q : Nat} {kind : Int} {P : List Nat} (h : KAt w q kind P) : q < w.heap.size := by
  unfold KAt at h
  rcases Nat.lt_or_ge q w.heap.size with hlt | hge
  · exact hlt
  · rw [Array.getElem?_eq_none hge] at h; cases h
theorem KAt.below {w w' : World} {q : Nat} {kind : Int} {P : List Nat} (h : KAt w q kind P) (hb : Below w.heap.size w w') : KAt w' q kind P := (hb.block q h.lt).trans h
/-- some sponge lies there -/
def Es (w : World) (o : Nat) : Prop := ∃ cs : Array Value, cs.size = 28 ∧ w.heap[o]? = some (.cells cs 55 (0, 0))
theorem Es.lt {w : World} {o : Nat} (h : Es w o) : o < w.heap.size := by
  obtain ⟨cs, _, h⟩ := h
  rcases Nat.lt_or_ge o w.heap.size with hlt | hge
  · exact hlt
  · rw [Array.getElem?_eq_none hge] at h; cases h
theorem Es.below {w w' : World} {o : Nat} (h : Es w o) (hb : Below w.heap.size w w') : Es w' o := by
  have hl := h.lt
  obtain ⟨cs, h1, h2⟩ := h
  exact ⟨cs, h1, (hb.block o hl).trans h2⟩
theorem Es.but {w w' : World} {o g : Nat} (h : Es w o) (hb : But g w w') (hn : o ≠ g) : Es w' o := by
  have hl := h.lt
  obtain ⟨cs, h1, h2⟩ := h
  exact ⟨cs, h1, (hb.block o hl hn).trans h2⟩
/-- where the loop of texts stands -/
def AbL (w : World) (kind : Int) (P : List Nat) (ls : List (List Nat)) (i : Value) (wr : World) : Prop := ∃ k : Nat, k ≤ ls.length ∧ i = .int .i64 (k : Int) ∧
  KAt wr w.heap.size kind (P ++ (ls.take k).flatten) ∧ Es wr (w.heap.size + 1) ∧ Below w.heap.size w wr

set_option maxHeartbeats 4000000 in
set_option maxRecDepth 100000 in
theorem absorbed_any (kind : Int) (hr : 0 < rateK kind) (P : List Nat) (lv : Value) (ls : List (List Nat)) (w : World) (hT : Csts w) (hL : Rows2 w lv ls) (hls : ls.flatten.length ≤ 100000) :
    Calls Tryd.prog 30 #[.agg (spK kind P), lv] w fun e w' => e = .returned (.agg (spK kind (P ++ ls.flatten))) ∧ Below w.heap.size w w' := by
  have hz := zero28
  have hsz0 : (sl 0 (zs 25) 0 false).toArray.size = 28 := by simp [sl_len (zs_len 25)]
  have hH0 : KAt ((w.alloc (.cells (spK kind P) 55)).alloc (.cells (sl 0 (zs 25) 0 false).toArray 55)) w.heap.size kind P :=
    ((keep_alloc _ _).block _ (by simp)).trans (heap_alloc_last w _)
  have hE0 : Es ((w.alloc (.cells (spK kind P) 55)).alloc (.cells (sl 0 (zs 25) 0 false).toArray 55)) (w.heap.size + 1) := ⟨_, hsz0, by
    have := heap_alloc_last (w.alloc (.cells (spK kind P) 55)) (.cells (sl 0 (zs 25) 0 false).toArray 55)
    rw [World.size_alloc] at this
    exact this⟩
  have hb0 := keep_trans (keep_alloc w (.cells (spK kind P) 55)) (keep_alloc _ (.cells (sl 0 (zs 25) 0 false).toArray 55))
  have hL' := hL
  obtain ⟨a, ca, rfl, ha1, ha2, ha3⟩ := hL
  unfold maxLen at ha2
  have HA0 : Hid (AbL w kind P ls (.int .i64 0) ((w.alloc (.cells (spK kind P) 55)).alloc (.cells (sl 0 (zs 25) 0 false).toArray 55))) := hide ⟨0, Nat.zero_le _, rfl, by rw [List.take_zero, List.flatten_nil, List.append_nil]; exact hH0, hE0, hb0⟩
  clear hH0 hE0 hb0
  go_enter Tryd.func30, Tryd.ntmps30
  go_wp2
  go_loopw [9] (fun i wr => AbL w kind P ls i wr) (fun i _ => ls.length - (intOf i).toNat)
  case atStart => exact HA0.out
  case round =>
    obtain ⟨k, hkl, rfl, hB, hE, hbr⟩ := hrel
    clear HA0
    have hBu : wr.heap[w.heap.size]? = some (.cells (spK kind (P ++ (ls.take k).flatten)) 55 (0, 0)) := hB
    have hfl := flat_le ls k
    have hTr := hT.below hbr
    by_cases hlt : k < ls.length
    · obtain ⟨a2, ca2, he, _, _, h3⟩ := hL'.below hbr
      obtain ⟨rfl, rfl⟩ : a = a2 ∧ ca = ca2 := by simpa using he
      obtain ⟨b, off, rfl, hc⟩ := h3 (by omega)
      obtain ⟨u, c1, hRu, tU⟩ := hc k hlt
      have hf := flat_succ hlt
      have hle := flat_le ls (k + 1)
      rw [hf, List.length_append] at hle
      clear hc h3 he ha3
      have hadd := spK_abs kind (P ++ (ls.take k).flatten) (tx ls k) u wr hTr hr hRu (by omega)
      rw [List.append_assoc, ← hf] at hadd
      clear hf
      obtain ⟨ua, uc, rfl⟩ := hRu.form
      have ki : (k : Int) < (ls.length : Int) := by omega
      have z1 := spK_size kind (P ++ (ls.take k).flatten)
      have z2 := spK_size kind (P ++ (ls.take (k + 1)).flatten)
      have o2 := spK_one kind (P ++ (ls.take (k + 1)).flatten)
      generalize hPn : spK kind (P ++ (ls.take (k + 1)).flatten) = Sn at *
      have HPn := hide hPn
      clear hPn
      generalize spK kind (P ++ (ls.take k).flatten) = Sk at *
      generalize (tx ls k) = T at *
      go_wp2_with (first
        | (refine wpList_load_row rfl 55 _ (by rfl) w.heap.size (by rfl) _ _ _ _ hBu Tryd.underlying55 rfl (by rw [z1]; kernel_rfl) ?_)
        | (go_at_call 44; refine hadd.mono ?_; rintro e w2 ⟨rfl, hb2⟩; have hB2 : w2.heap[w.heap.size]? = _ := (hb2.block _ hB.lt).trans hBu)
        | (refine wpList_store_row rfl 55 _ _ (by rfl) w.heap.size Sn (by rfl) (by rfl) _ _ hB2 (by rw [z2]; kernel_rfl) (by rw [z1, z2]) o2 ?_)
        | fail)
      have hq := hB.lt
      have hB3 := setRow_heap w2 w.heap.size _ Sn 55 _ hB2
      have hBf : But w.heap.size w2 (w2.setRow w.heap.size Sn) := (But.refl _ _).setRow _
      have hE3 := (hE.below hb2).but hBf (by omega)
      have hbw := keep_trans hbr hb2
      have hb3 := hbw.trans (hBf.below (Nat.le_refl _) hbw.size)
      have HH : Hid (AbL w kind P ls (.int .i64 ((k + 1 : Nat) : Int)) (w2.setRow w.heap.size Sn)) := hide ⟨k + 1, by omega, rfl, by unfold KAt; rw [HPn.out]; exact hB3, hE3, hb3⟩
      clear hB3 hBf hE3 hb3 hbw hB2 hBu hB hE hbr z1 z2
      go_roundw
      case rel => exact HH.out
      case measure => simp [intOf]; omega
    · obtain rfl : k = ls.length := by omega
      rw [List.take_of_length_le (Nat.le_refl _)] at hBu hB
      obtain ⟨old, ho1, ho2⟩ := hE
      have z1 := spK_size kind (P ++ ls.flatten)
      have o1 := spK_one kind (P ++ ls.flatten)
      generalize hPn : spK kind (P ++ ls.flatten) = Sn at *
      have HPn := hide hPn
      clear hPn
      go_wp2_with (first
        | (refine wpList_load_row rfl 55 _ (by rfl) w.heap.size (by rfl) _ _ _ _ hBu Tryd.underlying55 rfl (by rw [z1]; kernel_rfl) ?_)
        | (refine wpList_store_row rfl 55 _ _ (by rfl) (w.heap.size + 1) Sn (by rfl) (by rfl) _ _ ho2 (by rw [z1]; kernel_rfl) (by rw [ho1, z1]) o1 ?_)
        | fail)
      have hfu := setRow_heap wr (w.heap.size + 1) old Sn 55 _ ho2
      have hBf : But (w.heap.size + 1) wr (wr.setRow (w.heap.size + 1) Sn) := (But.refl _ _).setRow _
      refine bodyPost_ret (v := .agg Sn) ?_ ?_ ?_
      · exact results_cell_row Tryd.results30 _ _ (w.heap.size + 1) _ _ _ _ (by rfl) hfu Tryd.underlying55 rfl (by rw [z1]; kernel_rfl)
      · rfl
      · rw [HPn.out]
        exact ⟨rfl, hbr.trans (hBf.below (by omega) hbr.size)⟩
end Go.Proofs.YtejlmgbmfeacdaaDoor

/- The program's own Size and blockOf. -/
namespace Go.Proofs.YtejlmgbmfeacdaaDoor
open Go.RowKit
set_option linter.unusedVariables false
set_option linter.unusedSimpArgs false

/-- a block, of a kind that takes keys -/
def bkD (kind : Int) : Nat := if 1 ≤ kind ∧ kind ≤ 5 then blkD kind else 0
theorem bkD_ok {kind : Int} (h1 : 1 ≤ kind) (h5 : kind ≤ 5) : bkD kind = blkD kind := by unfold bkD; rw [if_pos ⟨h1, h5⟩]
theorem bkD_no {kind : Int} (h : kind < 1 ∨ 5 < kind) : bkD kind = 0 := by unfold bkD; rw [if_neg (by omega)]
theorem bkD_pos {kind : Int} (h1 : 1 ≤ kind) (h5 : kind ≤ 5) : 0 < bkD kind := by
  have hk : kind = 1 ∨ kind = 2 ∨ kind = 3 ∨ kind = 4 ∨ kind = 5 := by omega
  rcases hk with h | h | h | h | h <;> subst h <;> decide

set_option maxHeartbeats 2000000 in
set_option maxRecDepth 100000 in
theorem csize_any (kind : Int) (w : World) : Calls Tryd.prog 11 #[.int .i64 kind] w fun e w' => e = .returned (.int .i64 (sizeD kind : Nat)) ∧ w' = w := by
  by_cases h0 : kind < 1 ∨ 7 < kind
  · have e0 : sizeD kind = 0 := by unfold sizeD; (repeat' split) <;> omega
    rw [e0]
    have k1 : (kind == 1) = false := by rw [beq_eq_false_iff_ne]; omega
    have k2 : (kind == 2) = false := by rw [beq_eq_false_iff_ne]; omega
    have k3 : (kind == 3) = false := by rw [beq_eq_false_iff_ne]; omega
    have k4 : (kind == 4) = false := by rw [beq_eq_false_iff_ne]; omega
    have k5 : (kind == 5) = false := by rw [beq_eq_false_iff_ne]; omega
    have k6 : (kind == 6) = false := by rw [beq_eq_false_iff_ne]; omega
    have k7 : (kind == 7) = false := by rw [beq_eq_false_iff_ne]; omega
    clear h0 e0
    go_enter Tryd.func11, Tryd.ntmps11
    go_wp2_with fail
    go_ret
    exact ⟨rfl, rfl⟩
  have hk : kind = 1 ∨ kind = 2 ∨ kind = 3 ∨ kind = 4 ∨ kind = 5 ∨ kind = 6 ∨ kind = 7 := by omega
  clear h0
  rcases hk with h | h | h | h | h | h | h <;> subst h <;>
  · go_enter Tryd.func11, Tryd.ntmps11
    go_wp2_with fail
    go_ret
    exact ⟨rfl, rfl⟩
set_option maxHeartbeats 2000000 in
set_option maxRecDepth 100000 in
theorem cblk_any (kind : Int) (w : World) : Calls Tryd.prog 12 #[.int .i64 kind] w fun e w' => e = .returned (.int .i64 (bkD kind : Nat)) ∧ w' = w := by
  by_cases h0 : kind < 1 ∨ 5 < kind
  · rw [bkD_no h0]
    have k1 : (kind == 1) = false := by rw [beq_eq_false_iff_ne]; omega
    have k2 : (kind == 2) = false := by rw [beq_eq_false_iff_ne]; omega
    have k3 : (kind == 3) = false := by rw [beq_eq_false_iff_ne]; omega
    have k4 : (kind == 4) = false := by rw [beq_eq_false_iff_ne]; omega
    have k5 : (kind == 5) = false := by rw [beq_eq_false_iff_ne]; omega
    clear h0
    go_enter Tryd.func12, Tryd.ntmps12
    go_wp2_with fail
    go_ret
    exact ⟨rfl, rfl⟩
  have hk : kind = 1 ∨ kind = 2 ∨ kind = 3 ∨ kind = 4 ∨ kind = 5 := by omega
  clear h0
  rcases hk with h | h | h | h | h <;> subst h <;>
  · go_enter Tryd.func12, Tryd.ntmps12
    go_wp2_with fail
    go_ret
    exact ⟨rfl, rfl⟩
end Go.Proofs.YtejlmgbmfeacdaaDoor

/- Steps of a plan behind '&&': operations with a guard that is met. -/
namespace Go.Proofs.YtejlmgbmfeacdaaDoor
open Go.RowKit
set_option linter.unusedVariables false
set_option linter.unusedSimpArgs false
section
variable {P : Program} {ops : Array Oper} {Q : Exit → Act → World → Prop} {S : World → Prop} {K : Act → World → Prop}
theorem tmp_is {a : Act} {d : Nat} {b : Bool} (h : a.eval (.tmp d) = .bool b) : a.tmps[d]? = some (.bool b) := by
  have h' : a.tmps.getD d undef = .bool b := h
  rw [Array.getD_eq_getD_getElem?] at h'
  cases hq : a.tmps[d]? with
  | none => rw [hq] at h'; simp [undef] at h'
  | some v => rw [hq] at h'; simp at h'; rw [h']
theorem wanted_g {o oj : Oper} {a : Act} {j d : Nat} {b : Bool} (hg : o.guard = some (j, b)) (hj : ops[j]? = some oj) (hd : oj.dst = some d) (hv : a.eval (.tmp d) = .bool b) : Region.wanted o (yielded ops a.tmps) = true := by
  have ht := tmp_is hv
  simp [Region.wanted, hg, yielded, hj, hd, ht]
theorem y_ofW {o : Oper} {v : Value} {a : Act} (hw : Region.wanted o (yielded ops a.tmps) = true) (h : ∀ w, S w → (execOp a.eval o).run P w = .ok (.value v) w) : YieldsIf P ops S o v a := .inl ⟨hw, h⟩
theorem y_moveW {o : Oper} {v : Value} {a : Act} {x : Operand} (hw : Region.wanted o (yielded ops a.tmps) = true) (ho : o.op = .move x) (hx : a.eval x = v) : YieldsIf P ops S o v a :=
  y_ofW hw fun w _ => by unfold execOp; simp only [ho, hx]; rfl
theorem y_assign {o : Oper} {v : Value} {a : Act} {x : Operand} (hw : Region.wanted o (yielded ops a.tmps) = true) (ho : o.op = .assign x) (hx : a.eval x = v) : YieldsIf P ops S o v a :=
  y_ofW hw fun w _ => by unfold execOp; simp only [ho, hx]; rfl
theorem y_pick {o : Oper} {v : Value} {a : Act} {c x y : Operand} (hw : Region.wanted o (yielded ops a.tmps) = true) (ho : o.op = .pick c x y) (hc : a.eval c = .bool true) (hx : a.eval x = v) : YieldsIf P ops S o v a :=
  y_ofW hw fun w _ => by unfold execOp; simp only [ho, hc, hx, asBool, Sem.run_bind]; simp
theorem y_pickF {o : Oper} {v : Value} {a : Act} {c x y : Operand} (hw : Region.wanted o (yielded ops a.tmps) = true) (ho : o.op = .pick c x y) (hc : a.eval c = .bool false) (hy : a.eval y = v) : YieldsIf P ops S o v a :=
  y_ofW hw fun w _ => by unfold execOp; simp only [ho, hc, hy, asBool, Sem.run_bind]; simp
theorem y_load_rowW {o : Oper} {a : Act} {x : Operand} {t : TypeId} {b c : Nat} {cs : List Value} {d : TypeDesc} (hw : Region.wanted o (yielded ops a.tmps) = true) (ho : o.op = .load t x) (hx : a.eval x = .pointer (some ⟨b, c, none⟩))
    (hu : P.underlying t = some d) (hd : d.isRow = true) (hi : (P.info? t).map (·.size) = some cs.length) (hc : ∀ w, S w → w.rangeAt b c cs) : YieldsIf P ops S o (.agg cs.toArray) a := by
  refine y_ofW hw fun w hs => ?_
  unfold execOp
  simp only [ho, hx]
  simp [run_loadAt_mid w b c t cs d (hc w hs) hu hd hi, Sem.run_bind]
theorem y_eqW {o : Oper} {a : Act} {x y : Operand} {t t' : TypeId} {u v : Value} {b : Bool} (hw : Region.wanted o (yielded ops a.tmps) = true) (ho : o.op = .binOp .eql t x y t') (hx : a.eval x = u) (hy : a.eval y = v)
    (hr : ∀ w, (do eqGuard .eql t x y u v; binOp .eql t u v : Sem Value).run P w = .ok (.bool b) w) : YieldsIf P ops S o (.bool b) a := by
  refine y_ofW hw fun w _ => ?_
  have h := hr w
  unfold execOp
  simp only [ho, hx, hy]
  rw [Sem.run_bind, h]
  rfl
theorem y_neW {o : Oper} {a : Act} {x y : Operand} {t t' : TypeId} {u v : Value} {b : Bool} (hw : Region.wanted o (yielded ops a.tmps) = true) (ho : o.op = .binOp .neq t x y t') (hx : a.eval x = u) (hy : a.eval y = v)
    (hr : ∀ w, (do eqGuard .neq t x y u v; binOp .neq t u v : Sem Value).run P w = .ok (.bool b) w) : YieldsIf P ops S o (.bool b) a := by
  refine y_ofW hw fun w _ => ?_
  have h := hr w
  unfold execOp
  simp only [ho, hx, hy]
  rw [Sem.run_bind, h]
  rfl
theorem p_callW {i : Nat} {o : Oper} {a : Act} {w : World} {f : FuncId} {xs : Array Operand} {ts : Array TypeId} {args : Array Value} (hi : ops[i]? = some o) (hw : Region.wanted o (yielded ops a.tmps) = true)
    (ho : o.op = .call { callee := .value (.func f), args := xs, argTypes := ts }) (ha : xs.map a.eval = args) (hf : ∀ (args : Array Value) (w : World), (callFunc f args).run P w = .ok (.enter f args) w)
    (h : Calls P f args w fun e w' => ∃ v, e = .returned v ∧ K (a.put o.dst v) w') : wpOp P ops Q i K a w := by
  have hr : (execOp a.eval o).run P w = .ok (.enter f args) w := by
    unfold execOp
    simp only [ho]
    simp [resolve, ha, go_sem, hf]
  unfold wpOp
  simp only [hi]
  rw [if_pos hw]
  left
  unfold Oper.wp
  rw [hr]
  refine h.mono ?_
  rintro e w' ⟨v, rfl, hk⟩
  exact hk
end
theorem results_is {fn : Func} {p : Tmp} (h : fn.results = #[.tmp p]) {a : Act} {v : Value} (hv : a.eval (.tmp p) = v) (w : World) : (results fn a.tmps).run Tryd.prog w = .ok v w := by
  have h' : a.tmps.getD p undef = v := hv
  rw [Array.getD_eq_getD_getElem?] at h'
  simp [results, h, h']
end Go.Proofs.YtejlmgbmfeacdaaDoor
