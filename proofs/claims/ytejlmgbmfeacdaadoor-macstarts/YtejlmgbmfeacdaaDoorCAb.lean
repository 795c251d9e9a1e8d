/- Contract of keccak.Absorb. -/
import Derived.Test.YtejlmgbmfeacdaaDoorYAdd
import Derived.Test.YtejlmgbmfeacdaaDoorCPe
import Derived.Test.YtejlmgbmfeacdaaDoorHSl
import Derived.Lib.MinMax
import Derived.Test.YtejlmgbmfeacdaaDoorKSg
namespace Go.Proofs.YtejlmgbmfeacdaaDoor
open Go.RowKit
set_option linter.unusedVariables false
set_option linter.unusedSimpArgs false

theorem fitK_in {kind : Int} {p : Nat} (h : p < rateK kind) : fitK kind p false = true := by
  unfold fitK
  rw [Bool.and_eq_true, Bool.and_eq_true, Bool.or_eq_true, decide_eq_true_iff, decide_eq_true_iff, decide_eq_true_iff]
  exact ⟨by omega, by omega, .inl (by omega)⟩
theorem abs_step (rate : Nat) (A l : List Nat) (P F P1 : Nat) (hP : P < rate) (hF : F = min l.length (rate - P)) (hl : 0 < l.length) (h1 : P1 = P + F) :
    absK rate (A, P) (l.take F) = if P1 = rate then (perm (xorL A P (l.take F)), 0) else (xorL A P (l.take F), P1) := by
  have hlen : (l.take F).length = F := by rw [List.length_take]; omega
  by_cases h : P1 = rate
  · rw [if_pos h]
    exact absK_full rate _ A P (by omega) (by omega)
  · rw [if_neg h, h1]
    have := absK_part rate (l.take F) A P (by omega)
    rw [hlen] at this
    exact this
set_option maxHeartbeats 4000000 in
set_option maxRecDepth 100000 in
theorem cabs_out (kind : Int) (ws : List Nat) (p : Int) (bv : Value) (w : World) (hl : ws.length = 25) (hf : fitK kind p true = true) :
    Calls Tryd.prog 44 #[.agg (sl kind ws p true).toArray, bv] w fun e w' => e = .returned (.agg (sl kind ws p true).toArray) ∧ Below w.heap.size w w' := by
  have hz := zero28
  have hS : Sg ((w.alloc (.cells (sl kind ws p true).toArray 55)).alloc (.cells (sl 0 (zs 25) 0 false).toArray 55)) w.heap.size kind ws p true := (Sg.new w 55 kind ws p true hl).below (keep_alloc _ _)
  have hR : ((w.alloc (.cells (sl kind ws p true).toArray 55)).alloc (.cells (sl 0 (zs 25) 0 false).toArray 55)).heap[w.heap.size + 1]? = some (.cells (sl 0 (zs 25) 0 false).toArray 55 (0, 0)) := by
    have := heap_alloc_last (w.alloc (.cells (sl kind ws p true).toArray 55)) (.cells (sl 0 (zs 25) 0 false).toArray 55)
    rw [World.size_alloc] at this
    exact this
  have hb := keep_trans (keep_alloc w (.cells (sl kind ws p true).toArray 55)) (keep_alloc _ (.cells (sl 0 (zs 25) 0 false).toArray 55))
  have hll := hS.all
  have hsz : (sl kind ws p true).toArray.size = 28 := by simp [sl_len hl]
  have hsz0 : (sl 0 (zs 25) 0 false).toArray.size = 28 := by simp [sl_len (zs_len 25)]
  have hft := fun w' => cfit_any kind ws p true w' hl
  rw [hf] at hft
  have hW2 : w.heap.size + 1 < ((w.alloc (.cells (sl kind ws p true).toArray 55)).alloc (.cells (sl 0 (zs 25) 0 false).toArray 55)).heap.size := by simp
  go_enter Tryd.func44, Tryd.ntmps44
  go_wp2_with (first
    | (refine wpList_load_mid rfl 55 _ (by rfl) w.heap.size 0 (by rfl) (sl kind ws p true) _ hll Tryd.underlying55 rfl (by rw [sl_len hl]; kernel_rfl) ?_)
    | (go_at_call 45; refine (hft _).mono ?_; rintro e w1 ⟨rfl, hb1⟩; have hS1 := hS.below hb1; have c27 := hS1.out; have hl1 := hS1.all; have hR1 := (hb1.block _ hW2).trans hR; have hbx := keep_trans hb hb1)
    | (refine wpList_load_mid rfl 55 _ (by rfl) w.heap.size 0 (by rfl) (sl kind ws p true) _ hl1 Tryd.underlying55 rfl (by rw [sl_len hl]; kernel_rfl) ?_)
    | (refine wpList_store_row rfl 55 _ _ (by rfl) (w.heap.size + 1) (sl kind ws p true).toArray (by rfl) (by rfl) _ _ hR1 (by rw [hsz]; kernel_rfl) (by rw [hsz, hsz0]) (all_oneCell_toArray (sl_one _ _ _ _)) ?_)
    | fail)
  have hfu := setRow_heap w1 (w.heap.size + 1) _ (sl kind ws p true).toArray 55 _ hR1
  have hbf := hbx.trans ((But.setRow (But.refl (w.heap.size + 1) _) (sl kind ws p true).toArray).below (by omega) hbx.size)
  refine bodyPost_ret (v := .agg (sl kind ws p true).toArray) ?_ rfl ⟨rfl, hbf⟩
  exact results_cell_row Tryd.results44 _ _ (w.heap.size + 1) _ _ _ _ (by rfl) hfu Tryd.underlying55 rfl (by rw [hsz]; kernel_rfl)
/-- where the loop of parts stands -/
def CAbs (w : World) (kind : Int) (s0 : List Nat × Nat) (b : List Nat) (u : Value) (wr : World) : Prop := ∃ k : Nat, k ≤ b.length ∧ slen u = b.length - k ∧ Row .u8 256 w u (b.drop k) ∧ Sg wr w.heap.size kind (absK (rateK kind) s0 (b.take k)).1 ((absK (rateK kind) s0 (b.take k)).2 : Nat) false ∧ wr.heap[w.heap.size + 1]? = some (.cells (sl 0 (zs 25) 0 false).toArray 55 (0, 0)) ∧ Below w.heap.size w wr
theorem slen_row {k : IntKind} {m : Nat} {w : World} {v : Value} {l : List Nat} (h : Row k m w v l) : slen v = l.length := by
  obtain ⟨a, c, rfl, _⟩ := h
  rfl

set_option maxHeartbeats 8000000 in
set_option maxRecDepth 100000 in
theorem cabs_any (kind : Int) (ws : List Nat) (p : Nat) (bv : Value) (b : List Nat) (w : World) (hT : Csts w) (hw : W25 ws) (hp : p < rateK kind) (hRb : Row .u8 256 w bv b) (hbl : b.length ≤ 1000000) :
    Calls Tryd.prog 44 #[.agg (sl kind ws p false).toArray, bv] w fun e w' => e = .returned (.agg (sl kind (absK (rateK kind) (ws, p) b).1 ((absK (rateK kind) (ws, p) b).2 : Nat) false).toArray) ∧ Below w.heap.size w w' := by
  have hz := zero28
  have hS : Sg ((w.alloc (.cells (sl kind ws p false).toArray 55)).alloc (.cells (sl 0 (zs 25) 0 false).toArray 55)) w.heap.size kind ws p false := (Sg.new w 55 kind ws p false hw.1).below (keep_alloc _ _)
  have hR : ((w.alloc (.cells (sl kind ws p false).toArray 55)).alloc (.cells (sl 0 (zs 25) 0 false).toArray 55)).heap[w.heap.size + 1]? = some (.cells (sl 0 (zs 25) 0 false).toArray 55 (0, 0)) := by
    have := heap_alloc_last (w.alloc (.cells (sl kind ws p false).toArray 55)) (.cells (sl 0 (zs 25) 0 false).toArray 55)
    rw [World.size_alloc] at this
    exact this
  have hb := keep_trans (keep_alloc w (.cells (sl kind ws p false).toArray 55)) (keep_alloc _ (.cells (sl 0 (zs 25) 0 false).toArray 55))
  have hll := hS.all
  have hl := hw.1
  have hrt := rateK_le kind
  have hsz0 : (sl 0 (zs 25) 0 false).toArray.size = 28 := by simp [sl_len (zs_len 25)]
  have hft := fun w' => cfit_any kind ws p false w' hl
  rw [fitK_in hp] at hft
  have hrk := fun w' => block_any kind w'
  have hW2 : w.heap.size + 1 < ((w.alloc (.cells (sl kind ws p false).toArray 55)).alloc (.cells (sl 0 (zs 25) 0 false).toArray 55)).heap.size := by simp
  obtain ⟨ba, bc, rfl, g1, g2, g3, g4⟩ := hRb
  have hRb : Row .u8 256 w (.slice ba b.length bc) b := ⟨ba, bc, rfl, g1, g2, g3, g4⟩
  clear g1 g2 g3 g4
  go_enter Tryd.func44, Tryd.ntmps44
  go_wp2_with (first
    | (refine wpList_load_mid rfl 55 _ (by rfl) w.heap.size 0 (by rfl) (sl kind ws p false) _ hll Tryd.underlying55 rfl (by rw [sl_len hl]; kernel_rfl) ?_)
    | (go_at_call 45; refine (hft _).mono ?_; rintro e w1 ⟨rfl, hb1⟩; have hS1 := hS.below hb1; have c27 := hS1.out; have c0 := hS1.kind; have hR1 := (hb1.block _ hW2).trans hR; have hbx := keep_trans hb hb1)
    | (go_at_call 43; refine (hrk _).mono ?_; rintro e w2 ⟨rfl, rfl⟩)
    | fail)
  clear hz c27 c0 hS hR hb hll hft hrk hW2
  go_loopw [1] (fun u wr => CAbs w kind (ws, p) b u wr) (fun u _ => slen u)
  case atStart => exact ⟨0, Nat.zero_le _, rfl, hRb, hS1, hR1, hbx⟩
  case round =>
    clear hS1 hR1 hbx hb1 hRb
    obtain ⟨k, hk, hsk, hRu, hS, hR, hbr⟩ := hrel
    by_cases hlt : k < b.length
    · have hsw : W25 (absK (rateK kind) (ws, p) (b.take k)).1 := absK_w _ _ hw
      have hsa : (absK (rateK kind) (ws, p) (b.take k)).2 < rateK kind := absK_at _ _ hp
      have hsn := fun F => absK_parts (rateK kind) (ws, p) (b.take k) ((b.drop k).take F)
      generalize absK (rateK kind) (ws, p) (b.take k) = s at *
      obtain ⟨A, P⟩ := s
      dsimp only at hS hsw hsa
      have hdl : (b.drop k).length = b.length - k := List.length_drop
      generalize hlq : b.drop k = l at *
      obtain ⟨ua, uc, rfl, g1, g2, g3, g4⟩ := hRu
      have hRu : Row .u8 256 w (.slice ua l.length uc) l := ⟨ua, uc, rfl, g1, g2, g3, g4⟩
      obtain ⟨D, hD⟩ : ∃ x : Nat, x = rateK kind - P := ⟨_, rfl⟩
      obtain ⟨F, hF⟩ : ∃ x : Nat, x = min l.length D := ⟨_, rfl⟩
      obtain ⟨P1, hP1⟩ : ∃ x : Nat, x = P + F := ⟨_, rfl⟩
      have hst := abs_step (rateK kind) A l P F P1 hsa (by rw [hF, hD]) (by omega) hP1
      have hnx := hsn F
      rw [← hlq, ← List.take_add, hlq] at hnx
      rw [hst] at hnx
      have HNX := hide hnx
      clear hst hnx hsn
      have e_D : ((rateK kind : Nat) : Int) - (P : Int) = (D : Int) := by omega
      have r_D : IntKind.i64.wrap (D : Int) = (D : Int) := by rw [IntKind.wrap_i64]; omega
      have y3 : min (l.length : Int) (D : Int) = (F : Int) := by omega
      have y4 : min l.length D = F := hF.symm
      have e_P : (P : Int) + (F : Int) = (P1 : Int) := by omega
      have r_P : IntKind.i64.wrap (P1 : Int) = (P1 : Int) := by rw [IntKind.wrap_i64]; omega
      have hF1 : F ≤ l.length := by omega
      have hF0 : 0 < F := by omega
      have hFc : F ≤ uc := by omega
      have hsl := fun w => slice_to ua l.length uc F hFc w
      obtain ⟨ub, hsf, hub⟩ := slice_from ua l.length uc F hF1 g1
      have hRc : Row .u8 256 w (.slice ua F uc) (l.take F) := hRu.cut hF1
      have hRd : Row .u8 256 w (.slice ub (l.length - F) (uc - F)) (l.drop F) := hRu.behind hF1 hub
      have hdd : l.drop F = b.drop (k + F) := by rw [← hlq, List.drop_drop]
      rw [hdd] at hRd
      have hll0 : (0 : Int) < (l.length : Int) := by omega
      have hln : 0 < l.length := by omega
      have hPF : P + (l.take F).length ≤ 200 := by rw [List.length_take]; omega
      have hxo := fun w' (hb : Below w.heap.size w w') => xored_any A P (.slice ua F uc) (l.take F) w' hsw (hRc.below hb) hPF
      have hxw : W25 (xorL A P (l.take F)) := xorL_w _ P hsw
      have hAl := hsw.1
      have hkF : k + F ≤ b.length := by omega
      have hms : l.length - F = b.length - (k + F) := by omega
      have hwd := hS.words
      have c26 := hS.at
      have HD := hide hD
      have HP1 := hide hP1
      have HMS := hide hms
      have hmeas : l.length - F < slen (.slice ua l.length uc) := by show l.length - F < l.length; omega
      have HME := hide hmeas
      clear hD hP1 hms hmeas hF hlq hdd hub g1 g2 g3 g4 hdl hRu
      generalize xorL A P (l.take F) = X at *
      go_wp2
      refine wp_region_still_tail 7 (by kernel_rfl) (by kernel_rfl) ?_
      simp only [List.take_succ_cons, List.take_zero, List.drop_succ_cons, List.drop_zero]
      change wpStill _ _ (World.drew wr) (fun a' => wpList _ _ _ _ a' (World.drew wr)) _ _
      have hwd2 : wr.drew.rangeAt w.heap.size 1 (vals .u64 A) := (World.rangeAt_drew _ _ _ _).2 hwd
      have hvl : (vals .u64 A).length = 25 := by rw [vals_length, hAl]
      still_step
      refine wpStill_step (fun K hK => ?_)
      refine still_load_mid rfl 53 _ (by rfl) w.heap.size 1 (by rfl) (vals .u64 A) (.array 25 37) hwd2 (by kernel_rfl) rfl (by rw [hvl]; kernel_rfl) (hK _ ?_)
      clear hK K
      still_step
      still_step
      still_step
      still_step
      still_step
      refine wpStill_nil ?_
      clear hwd hwd2 c26
      have hpl := hxw.1
      have hps : (arr .u64 X).size = 25 := by rw [arr_size, hpl]
      have hprm := fun w' (hT' : Csts w') => perm_any X w' hT' hxw
      have hqw := perm_w hxw
      have hql := hqw.1
      by_cases hfull : P1 = rateK kind
      · have hbe : ((P1 : Int) == ((rateK kind : Nat) : Int)) = true := by rw [hfull]; exact beq_self_eq_true _
        have hN2 := HNX.out
        rw [if_pos hfull] at hN2
        have HN2 := hide hN2
        clear hN2 HNX
        have hqs : (arr .u64 (perm X)).size = 25 := by rw [arr_size, hql]
        generalize perm X = M at *
        have HFL := hide hfull
        clear hfull
        have hvx : (vals .u64 X).length = 25 := by rw [vals_length, hpl]
        go_wp2_with (first
          | (go_at_call 58; refine (hxo _ hbr.drew).mono ?_; rintro e w3 ⟨rfl, hb3⟩; replace hb3 := un_drew hb3; have hS3 := hS.below hb3; have hth : w3.there w.heap.size 1 (arr .u64 X).size := fun j hj => (by rw [hps] at hj; have := hS3.th (1 + j) (by omega); rw [Nat.zero_add] at this; exact this))
          | (refine wpList_store_mid rfl 53 _ _ (by rfl) w.heap.size 1 (arr .u64 X) (by rfl) (by rfl) hth (by rw [hps]; kernel_rfl) (arr_one _ _) ?_; have hS4 : Sg (w3.setCells w.heap.size 1 (arr .u64 X).toList) w.heap.size kind X P false := hS3.setWords _ hpl; have c26 := hS4.at; have f26 := hS4.frozen 26 (by decide); have hS5 := hS4.setAt (P1 : Int); have hwd5 := hS5.words; have hBt : But w.heap.size w3 ((w3.setCells w.heap.size 1 (arr .u64 X).toList).setCell ⟨w.heap.size, 26, none⟩ (.int .i64 (P1 : Int))) := ((But.refl _ _).setCells _ _).setCell _ _; have hb5 := (keep_trans hbr hb3).trans (hBt.below (Nat.le_refl _) (keep_trans hbr hb3).size))
          | (refine wpList_load_mid rfl 53 _ (by rfl) w.heap.size 1 (by rfl) (vals .u64 X) (.array 25 37) hwd5 (by kernel_rfl) rfl (by rw [hvx]; kernel_rfl) ?_)
          | (go_at_call 59; refine (hprm _ (hT.below hb5)).mono ?_; rintro e w6 ⟨rfl, hb7⟩; have hS7 := hS5.below hb7; have hth6 : w6.there w.heap.size 1 (arr .u64 M).size := fun j hj => (by rw [hqs] at hj; have := hS7.th (1 + j) (by omega); rw [Nat.zero_add] at this; exact this))
          | (refine wpList_store_mid rfl 53 _ _ (by rfl) w.heap.size 1 (arr .u64 M) (by rfl) (by rfl) hth6 (by rw [hqs]; kernel_rfl) (arr_one _ _) ?_; have hS8 : Sg (w6.setCells w.heap.size 1 (arr .u64 M).toList) w.heap.size kind M P1 false := hS7.setWords _ hql; have c26 := hS8.at; have f26 := hS8.frozen 26 (by decide))
          | fail)
        have hS9 := hS8.setAt 0
        have hBu : But w.heap.size w6 ((w6.setCells w.heap.size 1 (arr .u64 M).toList).setCell ⟨w.heap.size, 26, none⟩ (.int .i64 0)) := ((But.refl _ _).setCells _ _).setCell _ _
        have hR3 := (hb3.block _ (heap_lt hR)).trans hR
        have hR5 := (hBt.block (w.heap.size + 1) (heap_lt hR3) (by omega)).trans hR3
        have hR6 := (hb7.block _ (heap_lt hR5)).trans hR5
        have hR9 := (hBu.block (w.heap.size + 1) (heap_lt hR6) (by omega)).trans hR6
        have hb9 := (keep_trans hb5 hb7).trans (hBu.below (Nat.le_refl _) (keep_trans hb5 hb7).size)
        exact ⟨⟨k + F, hkF, HMS.out, hRd, by rw [HN2.out]; exact hS9, hR9, hb9⟩, HME.out⟩
      · have hbe : ((P1 : Int) == ((rateK kind : Nat) : Int)) = false := by rw [beq_eq_false_iff_ne]; omega
        have hN2 := HNX.out
        rw [if_neg hfull] at hN2
        have HN2 := hide hN2
        clear hN2 HNX hfull hprm hqw hql
        go_wp2_with (first
          | (go_at_call 58; refine (hxo _ hbr.drew).mono ?_; rintro e w3 ⟨rfl, hb3⟩; replace hb3 := un_drew hb3; have hS3 := hS.below hb3; have hth : w3.there w.heap.size 1 (arr .u64 X).size := fun j hj => (by rw [hps] at hj; have := hS3.th (1 + j) (by omega); rw [Nat.zero_add] at this; exact this))
          | (refine wpList_store_mid rfl 53 _ _ (by rfl) w.heap.size 1 (arr .u64 X) (by rfl) (by rfl) hth (by rw [hps]; kernel_rfl) (arr_one _ _) ?_; have hS4 : Sg (w3.setCells w.heap.size 1 (arr .u64 X).toList) w.heap.size kind X P false := hS3.setWords _ hpl; have c26 := hS4.at; have f26 := hS4.frozen 26 (by decide))
          | fail)
        have hS5 := hS4.setAt (P1 : Int)
        have hBt : But w.heap.size w3 ((w3.setCells w.heap.size 1 (arr .u64 X).toList).setCell ⟨w.heap.size, 26, none⟩ (.int .i64 (P1 : Int))) := ((But.refl _ _).setCells _ _).setCell _ _
        have hR3 := (hb3.block _ (heap_lt hR)).trans hR
        have hR5 := (hBt.block (w.heap.size + 1) (heap_lt hR3) (by omega)).trans hR3
        have hb5 := (keep_trans hbr hb3).trans (hBt.below (Nat.le_refl _) (keep_trans hbr hb3).size)
        exact ⟨⟨k + F, hkF, HMS.out, hRd, by rw [HN2.out]; exact hS5, hR5, hb5⟩, HME.out⟩
    · have hkb : k = b.length := by omega
      subst hkb
      rw [List.take_of_length_le (Nat.le_refl _)] at hS
      rw [List.drop_of_length_le (Nat.le_refl _)] at hRu
      obtain ⟨ua, uc, rfl, _⟩ := hRu
      generalize hs : absK (rateK kind) (ws, p) b = s at hS
      obtain ⟨A, P⟩ := s
      dsimp only at hS
      have HS := hide hs
      clear hs hsk
      have hll := hS.all
      have hsl := sl_len (kind := kind) (p := (P : Int)) (o := false) hS.len
      have hsz : (sl kind A P false).toArray.size = 28 := by simp [hsl]
      have hfu := setRow_heap wr (w.heap.size + 1) _ (sl kind A P false).toArray 55 _ hR
      have hbf := hbr.trans ((But.setRow (But.refl (w.heap.size + 1) _) (sl kind A P false).toArray).below (by omega) hbr.size)
      go_wp2_with (first
        | (refine wpList_load_mid rfl 55 _ (by rfl) w.heap.size 0 (by rfl) (sl kind A P false) _ hll Tryd.underlying55 rfl (by rw [hsl]; kernel_rfl) ?_)
        | (refine wpList_store_row rfl 55 _ _ (by rfl) (w.heap.size + 1) (sl kind A P false).toArray (by rfl) (by rfl) _ _ hR (by rw [hsz]; kernel_rfl) (by rw [hsz, hsz0]) (all_oneCell_toArray (sl_one _ _ _ _)) ?_)
        | fail)
      refine bodyPost_ret (v := .agg (sl kind A P false).toArray) ?_ rfl ⟨by rw [HS.out], hbf⟩
      exact results_cell_row Tryd.results44 _ _ (w.heap.size + 1) _ _ _ _ (by rfl) hfu Tryd.underlying55 rfl (by rw [hsz]; kernel_rfl)
end Go.Proofs.YtejlmgbmfeacdaaDoor

/- Steps for keccak.ended: fields, a slice of one byte, an alloc, a whole store. -/
namespace Go.Proofs.YtejlmgbmfeacdaaDoor
open Go.RowKit
set_option linter.unusedVariables false
set_option linter.unusedSimpArgs false

theorem Sg.but {w w' : World} {q g : Nat} {kind : Int} {ws : List Nat} {p : Int} {o : Bool} (h : Sg w q kind ws p o) (hb : But g w w') (hn : q ≠ g) : Sg w' q kind ws p o := by
  have hk := hb.block q h.lt hn
  refine ⟨fun j v hv => ?_, fun j hj => ?_, h.len⟩
  · rw [World.cell?_of_block (a := ⟨q, 0 + j, none⟩) hk]; exact h.all j v hv
  · rw [World.cell?_of_block (a := ⟨q, 0 + j, none⟩) hk, World.frozen?_of_block (a := ⟨q, 0 + j, none⟩) hk]; exact h.th j hj
section
variable {ops : Array Oper} {Q : Exit → Act → World → Prop} {S : World → Prop} {K : Act → World → Prop}
theorem y_field {o : Oper} {a : Act} {x : Operand} {q f off : Nat} (hg : o.guard = none) (ho : o.op = .fieldAddr 55 x f) (hx : a.eval x = .pointer (some ⟨q, 0, none⟩))
    (hf : ∀ w : World, (Instr.fieldAt 55 (.pointer (some ⟨q, 0, none⟩)) f).run Tryd.prog w = .ok (.pointer (some ⟨q, off, none⟩)) w) : YieldsIf Tryd.prog ops S o (.pointer (some ⟨q, off, none⟩)) a := by
  refine y_of hg fun w _ => ?_
  unfold execOp
  simp only [ho, hx]
  simp [hf w, Sem.run_bind]
theorem field0 (q : Nat) (w : World) : (Instr.fieldAt 55 (.pointer (some ⟨q, 0, none⟩)) 0).run Tryd.prog w = .ok (.pointer (some ⟨q, 0, none⟩)) w := by simp [go_sem]
theorem field1 (q : Nat) (w : World) : (Instr.fieldAt 55 (.pointer (some ⟨q, 0, none⟩)) 1).run Tryd.prog w = .ok (.pointer (some ⟨q, 1, none⟩)) w := by simp [go_sem]
theorem field2 (q : Nat) (w : World) : (Instr.fieldAt 55 (.pointer (some ⟨q, 0, none⟩)) 2).run Tryd.prog w = .ok (.pointer (some ⟨q, 26, none⟩)) w := by simp [go_sem]
/-- an operation that yields a value and a new world -/
theorem p_op {i : Nat} {o : Oper} {a : Act} {w w' : World} {v : Value} (hi : ops[i]? = some o) (hg : o.guard = none) (hr : (execOp a.eval o).run Tryd.prog w = .ok (.value v) w') (h : K (a.put o.dst v) w') : wpOp Tryd.prog ops Q i K a w := by
  unfold wpOp
  simp only [hi]
  rw [if_pos (wanted_free hg)]
  left
  unfold Oper.wp
  rw [hr]
  exact h
theorem p_one {i : Nat} {o : Oper} {a : Act} {w : World} {x : Operand} {c : Nat} (hi : ops[i]? = some o) (hg : o.guard = none) (ho : o.op = .buildSlice 22 1 #[(0, x)]) (hx : a.eval x = .int .u8 (c : Nat))
    (h : K (a.put o.dst (.slice (some ⟨w.heap.size, 0, none⟩) 1 1)) (w.alloc (.cells #[.int .u8 (c : Nat)] 5))) : wpOp Tryd.prog ops Q i K a w := by
  refine p_op hi hg ?_ h
  unfold execOp
  simp only [ho, List.map_toArray, List.map_cons, List.map_nil, hx]
  simp [go_sem]
theorem p_alloc {i : Nat} {o : Oper} {a : Act} {w : World} (hi : ops[i]? = some o) (hg : o.guard = none) (ho : o.op = .alloc 53)
    (h : K (a.put o.dst (.pointer (some ⟨w.heap.size, 0, none⟩))) (w.alloc (.cells (arr .u64 (zs 25)) 53))) : wpOp Tryd.prog ops Q i K a w := by
  have hz := zero25
  refine p_op hi hg ?_ h
  unfold execOp
  simp only [ho]
  simp [go_sem, hz]
theorem p_row {i : Nat} {o : Oper} {a : Act} {w : World} {t : TypeId} {x y : Operand} {g : Nat} {cells old : Array Value} {t' : TypeId} (hi : ops[i]? = some o) (hg : o.guard = none) (ho : o.op = .store t x y) (hd : o.dst = none) (hx : a.eval x = .pointer (some ⟨g, 0, none⟩)) (hy : a.eval y = .agg cells)
    (hb : w.heap[g]? = some (.cells old t' (0, 0))) (hs : (Tryd.prog.info? t).map (·.size) = some cells.size) (hold : old.size = cells.size) (h1 : cells.all (·.oneCell') = true)
    (h : K a (w.setRow g cells)) : wpOp Tryd.prog ops Q i K a w := by
  unfold wpOp
  simp only [hi]
  rw [if_pos (wanted_free hg)]
  left
  refine wp_store_row t x y ho g cells hx hy t' old hb hs hold h1 ?_
  rw [hd]
  exact h
end
theorem built_sponge (kind : Int) (M : List Nat) (h : M.length = 25) : Tryd.prog.built 55 [(0, .int .i64 kind), (1, .agg (arr .u64 M)), (3, .bool true)] = some (sl kind M 0 true).toArray := by
  obtain ⟨a0, a1, a2, a3, a4, a5, a6, a7, a8, a9, a10, a11, a12, a13, a14, a15, a16, a17, a18, a19, a20, a21, a22, a23, a24, rfl⟩ := list25 M h
  kernel_rfl
theorem y_sponge {ops : Array Oper} {S : World → Prop} {o : Oper} {a : Act} {x y : Operand} {kind : Int} {M : List Nat} (hg : o.guard = none) (ho : o.op = .build 55 #[(0, x), (1, y), (3, .const (.bool true))]) (hx : a.eval x = .int .i64 kind) (hy : a.eval y = .agg (arr .u64 M)) (hM : M.length = 25) :
    YieldsIf Tryd.prog ops S o (.agg (sl kind M 0 true).toArray) a := by
  refine y_of hg fun w _ => ?_
  have hb := run_build (P := Tryd.prog) w 55 #[(0, .int .i64 kind), (1, .agg (arr .u64 M)), (3, .bool true)] _ (built_sponge kind M hM)
  unfold execOp
  simp only [ho, List.map_toArray, List.map_cons, List.map_nil, hx, hy, ev_const]
  simp [Sem.run_bind, hb]
end Go.Proofs.YtejlmgbmfeacdaaDoor
