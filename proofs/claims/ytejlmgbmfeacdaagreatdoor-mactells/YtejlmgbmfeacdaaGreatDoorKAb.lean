/- Contract of the document's Absorb. -/
import Derived.Test.YtejlmgbmfeacdaaGreatDoorKPm
namespace Go.Proofs.YtejlmgbmfeacdaaGreatDoor
open Go.RowKit
set_option linter.unusedVariables false
set_option linter.unusedSimpArgs false

set_option maxHeartbeats 4000000 in
set_option maxRecDepth 100000 in
theorem kabs_out (kind : Int) (ws : List Nat) (p : Int) (bv : Value) (w : World) (hl : ws.length = 25) :
    Calls Tryz.prog 43 #[.agg (sl kind ws p true).toArray, bv] w fun e w' => e = .returned (.agg (sl kind ws p true).toArray) ∧ Below w.heap.size w w' := by
  have hz := zero28
  have hS : Sg ((w.alloc (.cells (sl kind ws p true).toArray 59)).alloc (.cells (sl 0 (zs 25) 0 false).toArray 59)) w.heap.size kind ws p true := (Sg.new w 59 kind ws p true hl).below (keep_alloc _ _)
  have hR : ((w.alloc (.cells (sl kind ws p true).toArray 59)).alloc (.cells (sl 0 (zs 25) 0 false).toArray 59)).heap[w.heap.size + 1]? = some (.cells (sl 0 (zs 25) 0 false).toArray 59 (0, 0)) := by
    have := heap_alloc_last (w.alloc (.cells (sl kind ws p true).toArray 59)) (.cells (sl 0 (zs 25) 0 false).toArray 59)
    rw [World.size_alloc] at this
    exact this
  have hb := keep_trans (keep_alloc w (.cells (sl kind ws p true).toArray 59)) (keep_alloc _ (.cells (sl 0 (zs 25) 0 false).toArray 59))
  have c27 := hS.out
  have hll := hS.all
  have hsz : (sl kind ws p true).toArray.size = 28 := by simp [sl_len hl]
  have hsz0 : (sl 0 (zs 25) 0 false).toArray.size = 28 := by simp [sl_len (zs_len 25)]
  have hfu := setRow_heap ((w.alloc (.cells (sl kind ws p true).toArray 59)).alloc (.cells (sl 0 (zs 25) 0 false).toArray 59)) (w.heap.size + 1) _ (sl kind ws p true).toArray 59 _ hR
  have hbf := hb.trans ((But.setRow (But.refl (w.heap.size + 1) _) (sl kind ws p true).toArray).below (by omega) hb.size)
  go_enter Tryz.func43, Tryz.ntmps43
  go_wp2_with (first
    | (refine wpList_load_mid rfl 59 _ (by rfl) w.heap.size 0 (by rfl) (sl kind ws p true) _ hll Tryz.underlying59 rfl (by rw [sl_len hl]; kernel_rfl) ?_)
    | (refine wpList_store_row rfl 59 _ _ (by rfl) (w.heap.size + 1) (sl kind ws p true).toArray (by rfl) (by rfl) _ _ hR (by rw [hsz]; kernel_rfl) (by rw [hsz, hsz0]) (all_oneCell_toArray (sl_one _ _ _ _)) ?_)
    | fail)
  refine bodyPost_ret (v := .agg (sl kind ws p true).toArray) ?_ rfl ⟨rfl, hbf⟩
  exact results_cell_row Tryz.results43 _ _ (w.heap.size + 1) _ _ _ _ (by rfl) hfu Tryz.underlying59 rfl (by rw [hsz]; kernel_rfl)
/-- where the loop of bytes stands -/
def KAbs (w : World) (kind : Int) (s0 : List Nat × Nat) (b : List Nat) (i : Value) (wr : World) : Prop := ∃ n : Nat, n ≤ b.length ∧ i = .int .i64 n ∧ Sg wr w.heap.size kind (absK (rateK kind) s0 (b.take n)).1 ((absK (rateK kind) s0 (b.take n)).2 : Nat) false ∧ wr.heap[w.heap.size + 1]? = some (.cells (sl 0 (zs 25) 0 false).toArray 59 (0, 0)) ∧ Below w.heap.size w wr
theorem take_elb (b : List Nat) (n : Nat) (h : n < b.length) : b.take (n + 1) = b.take n ++ [el b n] := by
  rw [List.take_add_one, List.getElem?_eq_getElem h, el_at h]; rfl
theorem rateK_le (kind : Int) : rateK kind ≤ 168 := by
  unfold rateK
  split
  · decide
  · split
    · decide
    · split <;> decide

set_option maxHeartbeats 8000000 in
set_option maxRecDepth 100000 in
theorem kabs_any (kind : Int) (ws : List Nat) (p : Nat) (bv : Value) (b : List Nat) (w : World) (hw : W25 ws) (hp : p < rateK kind) (hRb : Row .u8 256 w bv b) (hbl : b.length ≤ 1000000) :
    Calls Tryz.prog 43 #[.agg (sl kind ws p false).toArray, bv] w fun e w' => e = .returned (.agg (sl kind (absK (rateK kind) (ws, p) b).1 ((absK (rateK kind) (ws, p) b).2 : Nat) false).toArray) ∧ Below w.heap.size w w' := by
  have hz := zero28
  have hS : Sg ((w.alloc (.cells (sl kind ws p false).toArray 59)).alloc (.cells (sl 0 (zs 25) 0 false).toArray 59)) w.heap.size kind ws p false := (Sg.new w 59 kind ws p false hw.1).below (keep_alloc _ _)
  have hR : ((w.alloc (.cells (sl kind ws p false).toArray 59)).alloc (.cells (sl 0 (zs 25) 0 false).toArray 59)).heap[w.heap.size + 1]? = some (.cells (sl 0 (zs 25) 0 false).toArray 59 (0, 0)) := by
    have := heap_alloc_last (w.alloc (.cells (sl kind ws p false).toArray 59)) (.cells (sl 0 (zs 25) 0 false).toArray 59)
    rw [World.size_alloc] at this
    exact this
  have hb := keep_trans (keep_alloc w (.cells (sl kind ws p false).toArray 59)) (keep_alloc _ (.cells (sl 0 (zs 25) 0 false).toArray 59))
  have c27 := hS.out
  have hrt := rateK_le kind
  have hsz0 : (sl 0 (zs 25) 0 false).toArray.size = 28 := by simp [sl_len (zs_len 25)]
  have hub := hRb.under
  obtain ⟨ba, bc, rfl, g1, g2, g3, g4⟩ := hRb
  have hRb : Row .u8 256 w (.slice ba b.length bc) b := ⟨ba, bc, rfl, g1, g2, g3, g4⟩
  go_enter Tryz.func43, Tryz.ntmps43
  go_wp2
  clear hz c27
  generalize (w.alloc (.cells (sl kind ws p false).toArray 59)).alloc (.cells (sl 0 (zs 25) 0 false).toArray 59) = x1 at *
  go_loopw [5] (fun i wr => KAbs w kind (ws, p) b i wr) (fun i _ => b.length - (intOf i).toNat)
  case atStart => exact ⟨0, Nat.zero_le _, rfl, hS, hR, hb⟩
  case round =>
    clear hS hR hb
    obtain ⟨n, hn, rfl, hS, hR, hbr⟩ := hrel
    by_cases hlt : n < b.length
    · have hsn := absK_snoc (rateK kind) (ws, p) (b.take n) (el b n)
      rw [← take_elb b n hlt] at hsn
      have hsw : W25 (absK (rateK kind) (ws, p) (b.take n)).1 := absK_w _ _ hw
      have hsa : (absK (rateK kind) (ws, p) (b.take n)).2 < rateK kind := absK_at _ _ hp
      generalize absK (rateK kind) (ws, p) (b.take n) = s at *
      obtain ⟨A, P⟩ := s
      dsimp only at hS hsw hsa
      obtain ⟨bb, off, rfl, hc⟩ := g3 (by omega)
      have cb := keep_cell (hc n hlt) hbr
      have hcl : el b n < 256 := el_lt hub (by decide) n
      have hAl := hsw.1
      have hwd := hS.words
      have c26 := hS.at
      have c0 := hS.kind
      obtain ⟨n1, hn1⟩ : ∃ x : Nat, x = n + 1 := ⟨_, rfl⟩
      have e_n : (n : Int) + 1 = (n1 : Int) := by omega
      have r_n : IntKind.i64.wrap (n1 : Int) = (n1 : Int) := by rw [IntKind.wrap_i64]; omega
      obtain ⟨P1, hP1⟩ : ∃ x : Nat, x = P + 1 := ⟨_, rfl⟩
      have e_P : (P : Int) + 1 = (P1 : Int) := by omega
      have r_P : IntKind.i64.wrap (P1 : Int) = (P1 : Int) := by rw [IntKind.wrap_i64]; omega
      have hput := fun w' => kput_any A P (el b n) w' hsw (by omega) hcl
      have hpw := putK_w hsw P (el b n)
      rw [← hn1] at hsn
      have i0 : (0 : Int) ≤ (n : Int) := Int.natCast_nonneg _
      have i1 : (n : Int) < (b.length : Int) := by omega
      have HSN := hide hsn
      have HN1 := hide hn1
      have HP1 := hide hP1
      clear hsn hn1 hP1
      generalize el b n = c at *
      go_wp2
      refine wp_region_still_tail 8 (by kernel_rfl) (by kernel_rfl) ?_
      simp only [List.take_succ_cons, List.take_zero, List.drop_succ_cons, List.drop_zero]
      change wpStill _ _ (World.drew wr) (fun a' => wpList _ _ _ _ a' (World.drew wr)) _ _
      have hwd2 : wr.drew.rangeAt w.heap.size 1 (vals .u64 A) := (World.rangeAt_drew _ _ _ _).2 hwd
      have hvl : (vals .u64 A).length = 25 := by rw [vals_length, hAl]
      still_step
      refine wpStill_step (fun K hK => ?_)
      refine still_load_mid rfl 57 _ (by rfl) w.heap.size 1 (by rfl) (vals .u64 A) (.array 25 45) hwd2 (by kernel_rfl) rfl (by rw [hvl]; kernel_rfl) (hK _ ?_)
      clear hK K
      still_step
      still_step
      still_step
      still_step
      still_step
      still_step
      refine wpStill_nil ?_
      clear hwd hwd2 c26 c0 cb
      have hpl := hpw.1
      have hps : (arr .u64 (putK A P c)).size = 25 := by rw [arr_size, hpl]
      go_wp2_with (first
        | (go_at_call 66; refine (hput _).mono ?_; rintro e w3 ⟨rfl, hb3⟩; replace hb3 := un_drew hb3; have hS3 := hS.below hb3; have hth : w3.there w.heap.size 1 (arr .u64 (putK A P c)).size := fun j hj => (by rw [hps] at hj; have := hS3.th (1 + j) (by omega); rw [Nat.zero_add] at this; exact this))
        | (refine wpList_store_mid rfl 57 _ _ (by rfl) w.heap.size 1 (arr .u64 (putK A P c)) (by rfl) (by rfl) hth (by rw [hps]; kernel_rfl) (arr_one _ _) ?_; have hS4 : Sg (w3.setCells w.heap.size 1 (arr .u64 (putK A P c)).toList) w.heap.size kind (putK A P c) P false := hS3.setWords _ hpl; have c26 := hS4.at; have f26 := hS4.frozen 26 (by decide))
        | fail)
      have hS5 := hS4.setAt (P1 : Int)
      have hBt : But w.heap.size w3 ((w3.setCells w.heap.size 1 (arr .u64 (putK A P c)).toList).setCell ⟨w.heap.size, 26, none⟩ (.int .i64 (P1 : Int))) := ((But.refl _ _).setCells _ _).setCell _ _
      have hR3 : w3.heap[w.heap.size + 1]? = _ := (hb3.block _ (by
        rcases Nat.lt_or_ge (w.heap.size + 1) wr.heap.size with h | h
        · exact h
        · rw [Array.getElem?_eq_none h] at hR; cases hR)).trans hR
      have hs3 : w.heap.size + 1 < w3.heap.size := by
        rcases Nat.lt_or_ge (w.heap.size + 1) w3.heap.size with h | h
        · exact h
        · rw [Array.getElem?_eq_none h] at hR3; cases hR3
      have hR5 := (hBt.block (w.heap.size + 1) hs3 (by omega)).trans hR3
      have hb5 := (keep_trans hbr hb3).trans (hBt.below (Nat.le_refl _) (keep_trans hbr hb3).size)
      clear c26 f26 hS4 hS3 hth hBt hR3 hb3 hput hS hR hbr
      generalize (w3.setCells w.heap.size 1 (arr .u64 (putK A P c)).toList).setCell ⟨w.heap.size, 26, none⟩ (.int .i64 (P1 : Int)) = x3 at *
      have c26 := hS5.at
      have c0 := hS5.kind
      have hrk := fun w' => krate_any kind w'
      by_cases hfull : P1 = rateK kind
      · have hbe : ((P1 : Int) == ((rateK kind : Nat) : Int)) = true := by rw [hfull]; exact beq_self_eq_true _
        have hin : inK (rateK kind) (A, P) c = (perm (putK A P c), 0) := by unfold inK; rw [if_pos (by have := HP1.out; show P + 1 = rateK kind; omega)]
        have HIN := hide hin
        have hprm := fun w' => kperm_any (putK A P c) w' hpw
        have hqw := perm_w hpw
        have hql := hqw.1
        have hqs : (arr .u64 (perm (putK A P c))).size = 25 := by rw [arr_size, hql]
        clear hin
        have HFL := hide hfull
        clear hfull
        go_quiet (exact (hrk _).mono (by rintro e w' ⟨rfl, rfl⟩; exact ⟨rfl, _, rfl⟩))
        have hS6 := hS5.below (bel_drewN (Below.refl _ x3) nq)
        have hb6 := bel_drewN hb5 nq
        have hR6 : (x3.drewN nq).heap[w.heap.size + 1]? = _ := hR5
        have hwd := hS6.words
        have hvl : (vals .u64 (putK A P c)).length = 25 := by rw [vals_length, hpl]
        generalize perm (putK A P c) = M at *
        generalize putK A P c = B at *
        clear hS5 hb5 hR5 c26 c0
        generalize x3.drewN nq = x4 at *
        go_wp2_with (first
          | (refine wpList_load_mid rfl 57 _ (by rfl) w.heap.size 1 (by rfl) (vals .u64 B) (.array 25 45) hwd (by kernel_rfl) rfl (by rw [hvl]; kernel_rfl) ?_)
          | (go_at_call 65; refine (hprm _).mono ?_; rintro e w6 ⟨rfl, hb7⟩; have hS7 := hS6.below hb7; have hth : w6.there w.heap.size 1 (arr .u64 M).size := fun j hj => (by rw [hqs] at hj; have := hS7.th (1 + j) (by omega); rw [Nat.zero_add] at this; exact this))
          | (refine wpList_store_mid rfl 57 _ _ (by rfl) w.heap.size 1 (arr .u64 M) (by rfl) (by rfl) hth (by rw [hqs]; kernel_rfl) (arr_one _ _) ?_; have hS8 : Sg (w6.setCells w.heap.size 1 (arr .u64 M).toList) w.heap.size kind M P1 false := hS7.setWords _ hql; have c26 := hS8.at; have f26 := hS8.frozen 26 (by decide))
          | fail)
        have hS9 := hS8.setAt 0
        have hBt : But w.heap.size w6 ((w6.setCells w.heap.size 1 (arr .u64 M).toList).setCell ⟨w.heap.size, 26, none⟩ (.int .i64 0)) := ((But.refl _ _).setCells _ _).setCell _ _
        have hs4 : w.heap.size + 1 < x4.heap.size := by
          rcases Nat.lt_or_ge (w.heap.size + 1) x4.heap.size with h | h
          · exact h
          · rw [Array.getElem?_eq_none h] at hR6; cases hR6
        have hR7 := (hb7.block _ hs4).trans hR6
        have hR9 := (hBt.block (w.heap.size + 1) (by have := hb7.size; omega) (by omega)).trans hR7
        have hb9 := (keep_trans hb6 hb7).trans (hBt.below (Nat.le_refl _) (keep_trans hb6 hb7).size)
        exact ⟨⟨n1, by have := HN1.out; omega, rfl, by rw [HSN.out, HIN.out]; exact hS9, hR9, hb9⟩, by have := HN1.out; simp [intOf]; omega⟩
      · have hbe : ((P1 : Int) == ((rateK kind : Nat) : Int)) = false := by rw [beq_eq_false_iff_ne]; omega
        have hin : inK (rateK kind) (A, P) c = (putK A P c, P1) := by unfold inK; rw [if_neg (by have := HP1.out; show ¬ P + 1 = rateK kind; omega)]; rw [HP1.out]
        have HIN := hide hin
        clear hin
        go_quiet (exact (hrk _).mono (by rintro e w' ⟨rfl, rfl⟩; exact ⟨rfl, _, rfl⟩))
        go_wp2
        exact ⟨⟨n1, by have := HN1.out; omega, rfl, by rw [HSN.out, HIN.out]; exact hS5.below (bel_drewN (Below.refl _ x3) nq), hR5, bel_drewN hb5 nq⟩, by have := HN1.out; simp [intOf]; omega⟩
    · rw [List.take_of_length_le (by omega)] at hS
      generalize hs : absK (rateK kind) (ws, p) b = s at hS
      obtain ⟨A, P⟩ := s
      dsimp only at hS
      have HS := hide hs
      clear hs
      have hll := hS.all
      have hsl := sl_len (kind := kind) (p := (P : Int)) (o := false) hS.len
      have hsz : (sl kind A P false).toArray.size = 28 := by simp [hsl]
      have hfu := setRow_heap wr (w.heap.size + 1) _ (sl kind A P false).toArray 59 _ hR
      have hbf := hbr.trans ((But.setRow (But.refl (w.heap.size + 1) _) (sl kind A P false).toArray).below (by omega) hbr.size)
      go_wp2_with (first
        | (refine wpList_load_mid rfl 59 _ (by rfl) w.heap.size 0 (by rfl) (sl kind A P false) _ hll Tryz.underlying59 rfl (by rw [hsl]; kernel_rfl) ?_)
        | (refine wpList_store_row rfl 59 _ _ (by rfl) (w.heap.size + 1) (sl kind A P false).toArray (by rfl) (by rfl) _ _ hR (by rw [hsz]; kernel_rfl) (by rw [hsz, hsz0]) (all_oneCell_toArray (sl_one _ _ _ _)) ?_)
        | fail)
      refine bodyPost_ret (v := .agg (sl kind A P false).toArray) ?_ rfl ⟨by rw [HS.out], hbf⟩
      exact results_cell_row Tryz.results43 _ _ (w.heap.size + 1) _ _ _ _ (by rfl) hfu Tryz.underlying59 rfl (by rw [hsz]; kernel_rfl)
end Go.Proofs.YtejlmgbmfeacdaaGreatDoor
