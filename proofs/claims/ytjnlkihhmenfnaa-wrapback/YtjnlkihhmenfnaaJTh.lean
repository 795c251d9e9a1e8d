/- The code's there. -/
import Derived.Test.YtjnlkihhmenfnaaATh
import Derived.Deep.DeepCutAuto
import Derived.Test.YtjnlkihhmenfnaaJFw
import Derived.Test.YtjnlkihhmenfnaaAEch
namespace Go.Proofs.Ytjnlkihhmenfnaa
open Go.RowKit
set_option linter.unusedVariables false
set_option linter.unusedSimpArgs false

theorem arr4 (k : IntKind) (l : List Nat) (h : l.length = 4) : arr k l = #[.int k (el l 0), .int k (el l 1), .int k (el l 2), .int k (el l 3)] := by
  match l, h with
  | [a, b, c, d], _ => rfl
theorem four_set {l x : List Nat} (h : l.length = 4) (hx : x.length = 4) : (((l.set 0 (el x 0)).set 1 (el x 1)).set 2 (el x 2)).set 3 (el x 3) = x := by
  match l, h, x, hx with
  | [_, _, _, _], _, [_, _, _, _], _ => rfl
theorem Lies.four {k : IntKind} {t : TypeId} {w : World} {g : Nat} {l : List Nat} (h : Lies k t w g l) (hl : l.length = 4) (x : List Nat) (hx : x.length = 4) :
    Lies k t ((((w.setCell ⟨g, 0, none⟩ (.int k (el x 0))).setCell ⟨g, 1, none⟩ (.int k (el x 1))).setCell ⟨g, 2, none⟩ (.int k (el x 2))).setCell ⟨g, 3, none⟩ (.int k (el x 3))) g x := by
  have := (((h.set 0 (el x 0)).set 1 (el x 1)).set 2 (el x 2)).set 3 (el x 3)
  rw [four_set hl hx] at this
  exact this
theorem But.four {g : Nat} {a w : World} (h : But g a w) (u0 u1 u2 u3 : Value) : But g a ((((w.setCell ⟨g, 0, none⟩ u0).setCell ⟨g, 1, none⟩ u1).setCell ⟨g, 2, none⟩ u2).setCell ⟨g, 3, none⟩ u3) := (((h.setCell 0 _).setCell 1 _).setCell 2 _).setCell 3 _
theorem Lies.all4 {k : IntKind} {t : TypeId} {w : World} {g : Nat} {l : List Nat} (h : Lies k t w g l) (hl : l.length = 4) :
    w.cell? ⟨g, 0, none⟩ = some (.int k (el l 0)) ∧ w.cell? ⟨g, 1, none⟩ = some (.int k (el l 1)) ∧ w.cell? ⟨g, 2, none⟩ = some (.int k (el l 2)) ∧ w.cell? ⟨g, 3, none⟩ = some (.int k (el l 3)) ∧ w.frozen? ⟨g, 0, none⟩ = false ∧ w.frozen? ⟨g, 1, none⟩ = false ∧ w.frozen? ⟨g, 2, none⟩ = false ∧ w.frozen? ⟨g, 3, none⟩ = false :=
  ⟨h.cell (by omega), h.cell (by omega), h.cell (by omega), h.cell (by omega), h.frozen 0, h.frozen 1, h.frozen 2, h.frozen 3⟩
/-- where the loop stands: behind k rounds -/
def CtL (w : World) (ks s : List Nat) (n : Nat) (vr : Value) (wr : World) : Prop := ∃ k : Nat, k + 1 ≤ n ∧ vr = .int .i64 ((k + 1 : Nat) : Int) ∧ Lies .u32 58 wr w.heap.size (sw (thN n ks k s)) ∧ Lies .u32 58 wr (w.heap.size + 1) (zA 4) ∧ Below w.heap.size w wr
set_option maxHeartbeats 10000000 in
set_option maxRecDepth 100000 in
theorem cth_any (g n : Nat) (ws ks s : List Nat) (w : World) (hC : Cph w g n ws boxT) (hK : Kws ks ws) (hku : Under 256 ks) (hkl : ks.length = 16 * (n + 1)) (hn1 : 1 ≤ n) (hn : n ≤ 14) (hs : B16 s) :
    Calls Try.prog 35 #[.pointer (some ⟨g, 0, none⟩), .agg (arr .u32 (sw s))] w fun e w' => e = .returned (.agg (arr .u32 (sw (thN n ks n s)))) ∧ Below w.heap.size w w' := by
  have hz := zero4
  have L0 := (Lies.new .u32 58 w (sw s)).alloc (.cells (arr .u32 (zA 4)) 58)
  have L2 := Lies.new .u32 58 (w.alloc (.cells (arr .u32 (sw s)) 58)) (zA 4)
  have hb0 := keep_trans (keep_alloc w (.cells (arr .u32 (sw s)) 58)) (keep_alloc _ (.cells (arr .u32 (zA 4)) 58))
  simp only [World.size_alloc, Nat.add_assoc, Nat.reduceAdd] at L2
  have go := hC.old
  have hky := fun y (r : Nat) (s' : List Nat) (hr : r ≤ n) (hs' : B16 s') (hb : Below w.heap.size w y) => keyed_any g n r ws boxT ks s' y (hC.below hb) hK hku (by omega) (by omega) hs'
  have hmv := fun y (s' : List Nat) (hs' : B16 s') (hb : Below w.heap.size w y) => moved_any g 61 boxT s' 1 y (by decide) hs' boxT_under (hC.below hb).tab (hC.below hb).old
  have HKY := hide hky
  have HMV := hide hmv
  have hcr := fun y (hb : Below w.heap.size w y) => (hC.below hb).rounds
  have HCR := hide hcr
  clear hky hmv hcr
  have lS := sw_len s
  have k0 := HKY.out _ 0 s (Nat.zero_le _) hs hb0
  have e0 : keyAt ks 0 s = thN n ks 0 s := rfl
  rw [e0] at k0
  have lS1 := sw_len (thN n ks 0 s)
  have HZ := hide (And.intro L0 (And.intro L2 hb0))
  clear e0 hb0
  generalize hS0 : sw s = S0 at *
  clear hS0
  generalize hS1 : sw (thN n ks 0 s) = S1 at *
  have HS1 := hide hS1
  clear hS1
  go_enter Try.func35, Try.ntmps35
  go_wp2_with (first
    | (refine wpList_load_row rfl 58 _ (by rfl) w.heap.size (by rfl) _ _ _ (.array 4 56) L0 (by kernel_rfl) rfl (by rw [arr_size, lS]; kernel_rfl) ?_)
    | (go_at_call 57; refine k0.mono ?_; rintro e w1 ⟨rfl, hb1⟩)
    | (refine wpList_store_row rfl 58 _ _ (by rfl) w.heap.size (arr .u32 S1) (by rfl) (by rfl) _ _ (L0.below hb1) (by rw [arr_size, lS1]; kernel_rfl) (by rw [arr_size, arr_size, lS, lS1]) (arr_one _ _) ?_)
    | fail)
  have bA : But w.heap.size w1 (w1.setRow w.heap.size (arr .u32 S1)) := (But.refl _ _).setRow _
  obtain ⟨_, L2', hb0⟩ := HZ.out
  have hb2 := keep_trans hb0 hb1
  have H0 : Hid (CtL w ks s n (.int .i64 1) (w1.setRow w.heap.size (arr .u32 S1))) := hide ⟨0, by omega, rfl, by rw [HS1.out]; exact (L0.below hb1).row, (L2'.below hb1).but bA (by omega), hb2.trans (bA.below (by omega) hb2.size)⟩
  clear L0 L2 L2' hb0 hb1 hb2 bA HZ k0 hz HS1 lS lS1
  generalize w1.setRow w.heap.size (arr .u32 S1) = x1 at *
  go_loopw [5] (fun vr wr => CtL w ks s n vr wr) (fun vr _ => n - (intOf vr).toNat)
  case atStart => exact H0.out
  case round =>
    obtain ⟨k, hk, rfl, hA, h2, hbr⟩ := hrel
    clear H0
    have hcr := HCR.out wr hbr
    have bk := thN_b (n := n) hku hs k
    have be := eachL_b (fun c h => boxT_lt h) bk
    have br := rowsL_b be
    have bc : B16 (colsL 2 3 1 1 (rowsL (eachL boxT (thN n ks k s)))) := colsL_b (by decide) (by decide) (by decide) (by decide)
    obtain ⟨k1, hk1⟩ : ∃ x : Nat, x = k + 1 := ⟨_, rfl⟩
    have hmv1 := HMV.out wr.drew (thN n ks k s) bk (hbr.drew)
    rw [mv_left] at hmv1
    have lA : (sw (thN n ks k s)).length = 4 := rfl
    have lM : (sw (rowsL (eachL boxT (thN n ks k s)))).length = 4 := rfl
    rw [arr4 .u32 (sw (thN n ks k s)) rfl] at hmv1
    obtain ⟨z0, z1, z2, z3, p0, p1, p2, p3⟩ := hA.all4 rfl
    have HA := hide hA
    have HH2 := hide h2
    have HK1 := hide hk1
    by_cases hlt : k + 1 < n
    · have hlti : (k1 : Int) < (n : Int) := by omega
      have hsp : thN n ks k1 s = keyAt ks k1 (colsL 2 3 1 1 (rowsL (eachL boxT (thN n ks k s)))) := by
        rw [hk1]; show stepT n ks (k + 1) (thN n ks k s) = _; unfold stepT; rw [if_pos hlt]
      have hmx := fun y => mixed_any (rowsL (eachL boxT (thN n ks k s))) y br
      have hky := fun y (hb : Below w.heap.size w y) => HKY.out y k1 _ (by omega) bc hb
      rw [← hsp] at hky
      have lN : (sw (thN n ks k1 s)).length = 4 := rfl
      rw [arr4 .u32 (sw (thN n ks k1 s)) rfl] at hky
      generalize hN : sw (thN n ks k1 s) = SN at *
      have HN := hide hN
      rw [← hk1]
      clear hsp hN hk1 hA h2
      generalize sw (colsL 2 3 1 1 (rowsL (eachL boxT (thN n ks k s)))) = SC at *
      generalize sw (rowsL (eachL boxT (thN n ks k s))) = SR at *
      generalize sw (thN n ks k s) = SK at *
      obtain ⟨k2, hk2⟩ : ∃ x : Nat, x = k1 + 1 := ⟨_, rfl⟩
      have e_k2 : (k1 : Int) + 1 = (k2 : Int) := by omega
      have s_k2 : IntKind.i64.wrap (k2 : Int) = (k2 : Int) := by rw [IntKind.wrap_i64]; omega
      have HK2 := hide hk2
      clear hk2
      go_wp2
      go_region_with (first
        | (go_at_call 58; refine hmv1.mono ?_; rintro e w3 ⟨rfl, hb3⟩)
        | (go_at_call 59; refine (hmx _).mono ?_; rintro e w4 ⟨rfl, hb4⟩; have hb34 := hbr.trans ((keep_trans (un_drew hb3) hb4).mono hbr.size))
        | (go_at_call 57; refine (hky _ hb34).mono ?_; rintro e w5 ⟨rfl, hb5⟩; have hA5 := ((HA.out.below (un_drew hb3)).below hb4).below hb5; obtain ⟨y0, y1, y2, y3, r0, r1, r2, r3⟩ := hA5.all4 lA)
        | fail)
      all_goals
        go_wp2
        have hA6 := hA5.four lA SN lN
        have bF : But w.heap.size w5 _ := (But.refl w.heap.size w5).four (.int .u32 (el SN 0)) (.int .u32 (el SN 1)) (.int .u32 (el SN 2)) (.int .u32 (el SN 3))
        have hb35 := keep_trans hb34 hb5
        refine ⟨⟨k1, by have := HK1.out; omega, vint (by have := HK2.out; omega), ?_, ((((HH2.out.below (un_drew hb3)).below hb4).below hb5).but bF (by omega)), hb35.trans (bF.below (Nat.le_refl _) hb35.size)⟩, by have := HK2.out; have := HK1.out; simp [intOf]; omega⟩
        rw [HN.out]
        exact hA6
    · have hge : ¬ ((k1 : Int) < (n : Int)) := by omega
      have hkn : k1 = n := by omega
      have hsp : thN n ks n s = keyAt ks n (rowsL (eachL boxT (thN n ks k s))) := by
        have : thN n ks (k + 1) s = keyAt ks (k + 1) (rowsL (eachL boxT (thN n ks k s))) := by
          show stepT n ks (k + 1) (thN n ks k s) = _; unfold stepT; rw [if_neg hlt]
        rw [← hk1, hkn] at this
        exact this
      have hky := fun y (hb : Below w.heap.size w y) => HKY.out y n _ (Nat.le_refl _) br hb
      rw [← hsp] at hky
      have lN : (sw (thN n ks n s)).length = 4 := rfl
      rw [arr4 .u32 (sw (thN n ks n s)) rfl] at hky
      generalize hN : sw (thN n ks n s) = SN at *
      have HN := hide hN
      rw [← hk1]
      clear hsp hN hk1 hA h2 hkn
      generalize sw (rowsL (eachL boxT (thN n ks k s))) = SR at *
      generalize sw (thN n ks k s) = SK at *
      go_wp2
      go_region_with (first
        | (go_at_call 58; refine hmv1.mono ?_; rintro e w3 ⟨rfl, hb3⟩; have hb34 := hbr.trans ((un_drew hb3).mono hbr.size); have hcr3 := HCR.out w3 hb34)
        | (go_at_call 57; refine (hky _ hb34).mono ?_; rintro e w5 ⟨rfl, hb5⟩; have hA5 := (HH2.out.below (un_drew hb3)).below hb5; obtain ⟨y0, y1, y2, y3, r0, r1, r2, r3⟩ := hA5.all4 (zA_len 4))
        | fail)
      all_goals
        go_wp2
        have hA6 := hA5.four (zA_len 4) SN lN
        have bF : But (w.heap.size + 1) w5 _ := (But.refl (w.heap.size + 1) w5).four (.int .u32 (el SN 0)) (.int .u32 (el SN 1)) (.int .u32 (el SN 2)) (.int .u32 (el SN 3))
        have hb35 := keep_trans hb34 hb5
        refine bodyPost_ret (v := .agg (arr .u32 SN)) ?_ rfl ⟨by rw [HN.out], hb35.trans (bF.below (by omega) hb35.size)⟩
        exact results_cell_row Try.results35 _ _ (w.heap.size + 1) _ _ _ (.array 4 56) (by rfl) hA6 (by kernel_rfl) rfl (by rw [arr_size, lN]; kernel_rfl)
end Go.Proofs.Ytjnlkihhmenfnaa

/- The code's backward, back. -/
namespace Go.Proofs.Ytjnlkihhmenfnaa
open Go.RowKit
set_option linter.unusedVariables false
set_option linter.unusedSimpArgs false

/-- a decipher's cells -/
def dl (g : Nat) (T : List Nat) : List Value := .pointer (some ⟨g, 0, none⟩) :: vals .u8 T
def DLv (g : Nat) : Array Value := (dl g unT).toArray
theorem built_decipher (g : Nat) : Try.prog.built 94 [(0, .pointer (some ⟨g, 0, none⟩)), (1, .agg (arr .u8 unT))] = some (DLv g) := by kernel_rfl
theorem run_decipher (g : Nat) (w : World) : (Instr.build 94 #[(0, .pointer (some ⟨g, 0, none⟩)), (1, .agg (arr .u8 unT))]).run Try.prog w = .ok (.agg (DLv g)) w := run_build w 94 _ _ (built_decipher g)
/-- a decipher lies in block d -/
structure Dph (w : World) (d g : Nat) : Prop where
  here : w.heap[d]? = some (.cells (DLv g) 94 (0, 0))
theorem Dph.old {w : World} {d g : Nat} (h : Dph w d g) : d < w.heap.size := by
  rcases Nat.lt_or_ge d w.heap.size with hlt | hge
  · exact hlt
  · have := h.here
    rw [Array.getElem?_eq_none hge] at this; cases this
theorem Dph.below {w w' : World} {d g : Nat} (h : Dph w d g) (hb : Below w.heap.size w w') : Dph w' d g := ⟨(hb.block d h.old).trans h.here⟩
theorem Dph.ptr {w : World} {d g : Nat} (h : Dph w d g) : w.cell? ⟨d, 0, none⟩ = some (.pointer (some ⟨g, 0, none⟩)) := by
  rw [cell_of_row w d 0 _ _ (0, 0) h.here]; unfold DLv dl; rw [List.getElem?_toArray, List.getElem?_cons_zero]
theorem Dph.tab {w : World} {d g : Nat} (h : Dph w d g) : Tab w d 1 unT := fun c hc => by
  rw [cell_of_row w d (1 + c) _ _ (0, 0) h.here]; unfold DLv dl; rw [List.getElem?_toArray, Nat.add_comm, List.getElem?_cons_succ, vals_get _ _ _ (by rw [unT_len]; exact hc)]
theorem Cph.boxes {w : World} {g n : Nat} {ws : List Nat} (h : Cph w g n ws boxT) : w.rangeAt g 61 (vals .u8 boxT) := fun j v hv => by
  have hj : j < 256 := by have := (List.getElem?_eq_some_iff.1 hv).1; rw [vals_length, boxT_len] at this; exact this
  rw [h.tab j hj, ← hv, vals_get _ _ _ (by rw [boxT_len]; exact hj)]
theorem unT_under2 : Under 256 unT := fun x hx => by
  obtain ⟨i, hi, rfl⟩ := List.getElem_of_mem hx
  rw [unT_len] at hi
  have := un_lt (c := i) hi
  rwa [el_at (by rw [unT_len]; exact hi)] at this
/-- what forward tells -/
def FwdE (key : List Nat) (k : Nat) (kv : Value) : Prop := ∀ w, Row .u8 256 w kv key → Calls Try.prog 34 #[kv] w fun e w' => ∃ g ws, e = .returned (.pointer (some ⟨g, 0, none⟩)) ∧ Cph w' g (k + 6) ws boxT ∧ Kws (keysL key) ws ∧ w.heap.size ≤ g ∧ Below w.heap.size w w'
set_option maxHeartbeats 10000000 in
set_option maxRecDepth 100000 in
theorem bwd_of (k : Nat) (key : List Nat) (kv : Value) (w : World) (hF : FwdE key k kv) (rk : Row .u8 256 w kv key) :
    Calls Try.prog 45 #[kv] w fun e w' => ∃ d g ws, e = .returned (.pointer (some ⟨d, 0, none⟩)) ∧ Dph w' d g ∧ Cph w' g (k + 6) ws boxT ∧ Kws (keysL key) ws ∧ w.heap.size ≤ d ∧ Below w.heap.size w w' := by
  have hf := hF w rk
  have hin := cinv_any
  have hbd := run_decipher
  have hsz : (Try.prog.info? 66).map (·.size) = some (vals .u8 boxT).length := by rw [vals_length, boxT_len]; kernel_rfl
  obtain ⟨BL, hBL⟩ : ∃ l, l = vals .u8 boxT := ⟨_, rfl⟩
  have hin2 : ∀ y, Calls Try.prog 68 #[.agg BL.toArray] y fun e w' => e = .returned (.agg (arr .u8 unT)) ∧ Below y.heap.size y w' := fun y => by rw [hBL]; exact hin y
  rw [← hBL] at hsz
  have HBL := hide hBL
  clear hin hBL
  generalize arr .u8 unT = UT at *
  go_enter Try.func45, Try.ntmps45
  go_wp2_with fail
  refine hf.mono ?_
  rintro e w1 ⟨g, ws, rfl, hC, hK, hg, hb1⟩
  have hR := hC.boxes
  rw [← HBL.out] at hR
  go_wp2_with (first
    | (refine wpList_load_mid rfl 66 _ (by rfl) g 61 (by rfl) BL (.array 256 5) hR (by kernel_rfl) rfl hsz ?_)
    | fail)
  refine (hin2 _).mono ?_
  rintro e w2 ⟨rfl, hb2⟩
  rename_i hK2
  refine hK2 _ _ ?_
  refine wpList_build2 rfl 94 0 1 _ _ rfl _ _ _ (by rfl) (by rfl) (hbd g _) ?_
  refine wpList_boxA rfl 94 _ rfl (DLv g) (by rfl) ?_
  simp only [Act.put, List.setIfInBounds_toArray, List.set_cons_zero, List.set_cons_succ]
  clear hK2 hbd
  have hb3 := keep_alloc w2 (.cells (DLv g) 94)
  have hC2 := (hC.below hb2).below hb3
  have hD : Dph (w2.alloc (.cells (DLv g) 94)) w2.heap.size g := ⟨heap_alloc_last w2 _⟩
  have hb4 := keep_trans (keep_trans hb1 hb2) hb3
  have hle := (keep_trans hb1 hb2).size
  go_wp2_with fail
  go_ret
  exact ⟨_, g, ws, rfl, hD, hC2, hK, hle, hb4⟩
/-- where the loop stands -/
def CbL (w : World) (ks s : List Nat) (n : Nat) (vr : Value) (wr : World) : Prop := ∃ (k : Nat) (S : List Nat), k + 1 ≤ n ∧ vr = .int .i64 (k : Int) ∧ B16 S ∧ bkN n ks k S = bkN n ks n s ∧ Lies .u32 58 wr w.heap.size (sw S) ∧ Lies .u32 58 wr (w.heap.size + 1) (zA 4) ∧ Below w.heap.size w wr
set_option maxHeartbeats 20000000 in
set_option maxRecDepth 100000 in
theorem cbk_any (d g n : Nat) (ws ks s : List Nat) (w : World) (hD : Dph w d g) (hC : Cph w g n ws boxT) (hK : Kws ks ws) (hku : Under 256 ks) (hkl : ks.length = 16 * (n + 1)) (hn1 : 1 ≤ n) (hn : n ≤ 14) (hs : B16 s) :
    Calls Try.prog 46 #[.pointer (some ⟨d, 0, none⟩), .agg (arr .u32 (sw s))] w fun e w' => e = .returned (.agg (arr .u32 (sw (bkN n ks n s)))) ∧ Below w.heap.size w w' := by
  have hz := zero4
  have L0 := (Lies.new .u32 58 w (sw s)).alloc (.cells (arr .u32 (zA 4)) 58)
  have L2 := Lies.new .u32 58 (w.alloc (.cells (arr .u32 (sw s)) 58)) (zA 4)
  have hb0 := keep_trans (keep_alloc w (.cells (arr .u32 (sw s)) 58)) (keep_alloc _ (.cells (arr .u32 (zA 4)) 58))
  simp only [World.size_alloc, Nat.add_assoc, Nat.reduceAdd] at L2
  have hky := fun y (r : Nat) (s' : List Nat) (hr : r ≤ n) (hs' : B16 s') (hb : Below w.heap.size w y) => keyed_any g n r ws boxT ks s' y (hC.below hb) hK hku (by omega) (by omega) hs'
  have hmv : ∀ y (s' : List Nat), B16 s' → Below w.heap.size w y → Calls Try.prog 58 #[.agg (arr .u32 (sw s')), .pointer (some ⟨d, 1, none⟩), .int .i64 3] y fun e w' => e = .returned (.agg (arr .u32 (sw (eachL unT (rowsR s'))))) ∧ Below y.heap.size y w' := fun y s' hs' hb => by
    have := moved_any d 1 unT s' 3 y (by decide) hs' unT_under2 (hD.below hb).tab (hD.below hb).old
    rw [mv_right] at this
    exact this
  have HKY := hide hky
  have HMV := hide hmv
  have hcr := fun y (hb : Below w.heap.size w y) => And.intro (hC.below hb).rounds (hD.below hb).ptr
  have HCR := hide hcr
  clear hky hmv hcr
  have lS := sw_len s
  have bk0 := keyAt_b (r := n) hku hs
  have bm0 := eachL_b (fun c h => un_lt h) (rowsR_b bk0)
  have e0 : stepB n ks n s = eachL unT (rowsR (keyAt ks n s)) := by unfold stepB; rw [if_neg (by omega)]
  have ebk : bkN n ks (n - 1) (eachL unT (rowsR (keyAt ks n s))) = bkN n ks n s := by
    obtain ⟨m, rfl⟩ : ∃ m, n = m + 1 := ⟨n - 1, by omega⟩
    rw [← e0]
    rfl
  have lS1 := sw_len (eachL unT (rowsR (keyAt ks n s)))
  have k0 := fun y hb => HKY.out y n s (Nat.le_refl _) hs hb
  rw [arr4 .u32 (sw s) rfl] at k0
  obtain ⟨cr0, cp0⟩ := HCR.out _ hb0
  obtain ⟨z0, z1, z2, z3, p0, p1, p2, p3⟩ := L0.all4 rfl
  have m0 := fun y hb => HMV.out y (keyAt ks n s) bk0 hb
  rw [arr4 .u32 (sw (eachL unT (rowsR (keyAt ks n s)))) rfl] at m0
  have HZ := hide (And.intro L0 (And.intro L2 (And.intro hb0 (And.intro bm0 ebk))))
  clear e0 hb0 bk0 bm0 ebk L2 L0
  generalize hS1 : sw (eachL unT (rowsR (keyAt ks n s))) = S1 at *
  have HS1 := hide hS1
  clear hS1
  generalize sw (keyAt ks n s) = SK at *
  generalize sw s = S0 at *
  obtain ⟨n1, hn1'⟩ : ∃ x : Nat, x = n - 1 := ⟨_, rfl⟩
  have e_n1 : (n : Int) - 1 = (n1 : Int) := by omega
  have s_n1 : IntKind.i64.wrap (n1 : Int) = (n1 : Int) := by rw [IntKind.wrap_i64]; omega
  have HN1 := hide hn1'
  clear hn1'
  go_enter Try.func46, Try.ntmps46
  go_upto_region 1 with fail
  clear hz
  generalize (w.alloc (.cells (arr .u32 S0) 58)).alloc (.cells (arr .u32 (zA 4)) 58) = x0 at *
  go_cut [] (fun wx => CbL w ks s n (.int .i64 (n1 : Int)) wx)
  case first =>
    go_region_with (first
      | (go_at_call 57; refine (k0 _ (HZ.out.2.2.1.drew)).mono ?_; rintro e w3 ⟨rfl, hb3⟩; have hb34 := keep_trans HZ.out.2.2.1 (un_drew hb3))
      | (go_at_call 58; refine (m0 _ hb34).mono ?_; rintro e w5 ⟨rfl, hb5⟩; have hA5 := (HZ.out.1.below (un_drew hb3)).below hb5; obtain ⟨y0, y1, y2, y3, r0, r1, r2, r3⟩ := hA5.all4 lS)
      | fail)
    all_goals
      have hb35 := keep_trans hb34 hb5
      have bF : But w.heap.size w5 _ := (But.refl w.heap.size w5).four (.int .u32 (el S1 0)) (.int .u32 (el S1 1)) (.int .u32 (el S1 2)) (.int .u32 (el S1 3))
      have hb6 := hb35.trans (bF.below (Nat.le_refl _) hb35.size)
      have hA6 := hA5.four lS S1 lS1
      have hh2 := ((HZ.out.2.1.below (un_drew hb3)).below hb5).but bF (by omega)
      clear hA5 bF y0 y1 y2 y3 r0 r1 r2 r3
      go_wp2_with fail
      go_meet
      exact ⟨n1, _, by have := HN1.out; omega, rfl, HZ.out.2.2.2.1, by rw [HN1.out]; exact HZ.out.2.2.2.2, by rw [HS1.out]; exact hA6, hh2, hb6⟩
  case rest =>
  clear z0 z1 z2 z3 p0 p1 p2 p3 cr0 cp0 HZ k0 m0 HS1 lS1
  have hbc : Below w.heap.size w wc := by obtain ⟨_, _, _, _, _, _, _, _, h⟩ := hcut; exact h
  obtain ⟨cr6, cp6⟩ := HCR.out _ hbc
  have H0 := hide hcut
  clear hcut
  go_wp2
  go_loopw [5] (fun vr wr => CbL w ks s n vr wr) (fun vr _ => (intOf vr).toNat)
  case atStart => exact H0.out
  case round =>
    obtain ⟨k, S, hk, rfl, bS, hbk, hA, h2, hbr⟩ := hrel
    clear H0 cr6 cp6 hbc
    obtain ⟨cr, cp⟩ := HCR.out wr hbr
    obtain ⟨z0, z1, z2, z3, p0, p1, p2, p3⟩ := hA.all4 rfl
    have HA := hide hA
    have HH2 := hide h2
    by_cases hlt : 0 < k
    · have hlti : (0 : Int) < (k : Int) := by omega
      have bk1 := keyAt_b (r := k) hku bS
      have bc1 : B16 (colsL 14 11 13 9 (keyAt ks k S)) := colsL_b (by decide) (by decide) (by decide) (by decide)
      have bm1 := eachL_b (fun c h => un_lt h) (rowsR_b bc1)
      have e1 : stepB n ks k S = eachL unT (rowsR (colsL 14 11 13 9 (keyAt ks k S))) := by unfold stepB; rw [if_pos (by omega)]
      have ebk : bkN n ks (k - 1) (eachL unT (rowsR (colsL 14 11 13 9 (keyAt ks k S)))) = bkN n ks n s := by
        obtain ⟨m, rfl⟩ : ∃ m, k = m + 1 := ⟨k - 1, by omega⟩
        rw [← e1, ← hbk]
        rfl
      have k0 := fun y hb => HKY.out y k S (by omega) bS hb
      have u0 := fun y => unmixed_any (keyAt ks k S) y bk1
      have m0 := fun y hb => HMV.out y (colsL 14 11 13 9 (keyAt ks k S)) bc1 hb
      rw [arr4 .u32 (sw S) rfl] at k0
      rw [arr4 .u32 (sw (eachL unT (rowsR (colsL 14 11 13 9 (keyAt ks k S))))) rfl] at m0
      have lS1 := sw_len (eachL unT (rowsR (colsL 14 11 13 9 (keyAt ks k S))))
      have lS := sw_len S
      have HZ := hide (And.intro bm1 ebk)
      clear e1 ebk bm1 bc1 bk1 hbk hA h2
      generalize hS1 : sw (eachL unT (rowsR (colsL 14 11 13 9 (keyAt ks k S)))) = S1 at *
      have HS1 := hide hS1
      clear hS1
      generalize sw (colsL 14 11 13 9 (keyAt ks k S)) = SC at *
      generalize sw (keyAt ks k S) = SK at *
      generalize sw S = S0 at *
      obtain ⟨k1, hk1⟩ : ∃ x : Nat, x = k - 1 := ⟨_, rfl⟩
      have e_k1 : (k : Int) - 1 = (k1 : Int) := by omega
      have s_k1 : IntKind.i64.wrap (k1 : Int) = (k1 : Int) := by rw [IntKind.wrap_i64]; omega
      have HK1 := hide hk1
      clear hk1
      go_wp2
      go_region_with (first
        | (go_at_call 57; refine (k0 _ (hbr.drew)).mono ?_; rintro e w3 ⟨rfl, hb3⟩)
        | (go_at_call 69; refine (u0 _).mono ?_; rintro e w4 ⟨rfl, hb4⟩; have hb34 := hbr.trans ((keep_trans (un_drew hb3) hb4).mono hbr.size))
        | (go_at_call 58; refine (m0 _ hb34).mono ?_; rintro e w5 ⟨rfl, hb5⟩; have hA5 := ((HA.out.below (un_drew hb3)).below hb4).below hb5; obtain ⟨y0, y1, y2, y3, r0, r1, r2, r3⟩ := hA5.all4 lS)
        | fail)
      all_goals
        go_wp2
        have hA6 := hA5.four lS S1 lS1
        have bF : But w.heap.size w5 _ := (But.refl w.heap.size w5).four (.int .u32 (el S1 0)) (.int .u32 (el S1 1)) (.int .u32 (el S1 2)) (.int .u32 (el S1 3))
        have hb35 := keep_trans hb34 hb5
        refine ⟨⟨k1, _, by have := HK1.out; omega, rfl, HZ.out.1, by rw [HK1.out]; exact HZ.out.2, by rw [HS1.out]; exact hA6, ((((HH2.out.below (un_drew hb3)).below hb4).below hb5).but bF (by omega)), hb35.trans (bF.below (Nat.le_refl _) hb35.size)⟩, by have := HK1.out; simp [intOf]; omega⟩
    · obtain rfl : k = 0 := by omega
      have k0 := fun y hb => HKY.out y 0 S (Nat.zero_le _) bS hb
      rw [arr4 .u32 (sw S) rfl] at k0
      have efin : keyAt ks 0 S = bkN n ks n s := hbk
      rw [efin, arr4 .u32 (sw (bkN n ks n s)) rfl] at k0
      have lN := sw_len (bkN n ks n s)
      generalize hN : sw (bkN n ks n s) = SN at *
      have HN := hide hN
      clear hN hbk efin hA h2
      generalize sw S = S0 at *
      go_wp2
      go_region_with (first
        | (go_at_call 57; refine (k0 _ (hbr.drew)).mono ?_; rintro e w5 ⟨rfl, hb5⟩; have hA5 := HH2.out.below (un_drew hb5); obtain ⟨y0, y1, y2, y3, r0, r1, r2, r3⟩ := hA5.all4 (zA_len 4))
        | fail)
      all_goals
        go_wp2
        have hA6 := hA5.four (zA_len 4) SN lN
        have bF : But (w.heap.size + 1) w5 _ := (But.refl (w.heap.size + 1) w5).four (.int .u32 (el SN 0)) (.int .u32 (el SN 1)) (.int .u32 (el SN 2)) (.int .u32 (el SN 3))
        have hb35 := keep_trans hbr (un_drew hb5)
        refine bodyPost_ret (v := .agg (arr .u32 SN)) ?_ rfl ⟨by rw [HN.out], hb35.trans (bF.below (by omega) hb35.size)⟩
        exact results_cell_row Try.results46 _ _ (w.heap.size + 1) _ _ _ (.array 4 56) (by rfl) hA6 (by kernel_rfl) rfl (by rw [arr_size, lN]; kernel_rfl)
end Go.Proofs.Ytjnlkihhmenfnaa

/- The code's Block, Back. -/
namespace Go.Proofs.Ytjnlkihhmenfnaa
open Go.RowKit
set_option linter.unusedVariables false
set_option linter.unusedSimpArgs false

theorem Sz3.words {key : List Nat} (h : Sz3 key.length) : ∃ k, (k = 4 ∨ k = 6 ∨ k = 8) ∧ key.length = 4 * k ∧ key.length / 4 = k := by
  rcases h with h | h | h
  · exact ⟨4, .inl rfl, h, by rw [h]⟩
  · exact ⟨6, .inr (.inl rfl), h, by rw [h]⟩
  · exact ⟨8, .inr (.inr rfl), h, by rw [h]⟩
/-- a block behind the cipher, and back -/
def thA' (key b : List Nat) : List Nat := thN (key.length / 4 + 6) (keysL key) (key.length / 4 + 6) b
def bkA' (key b : List Nat) : List Nat := bkN (key.length / 4 + 6) (keysL key) (key.length / 4 + 6) b
theorem thA'_b {key b : List Nat} (hk : Under 256 key) (hb : B16 b) : B16 (thA' key b) := thN_b (keysL_under hk) hb _
theorem bkA'_b {key b : List Nat} (hk : Under 256 key) (hb : B16 b) : B16 (bkA' key b) := bkN_b (keysL_under hk) _ hb
theorem bk_th' {key b : List Nat} (hk : Under 256 key) (hb : B16 b) : bkA' key (thA' key b) = b := bk_th (keysL_under hk) hb _
theorem th_bk' {key b : List Nat} (hk : Under 256 key) (hb : B16 b) : thA' key (bkA' key b) = b := th_bk (keysL_under hk) _ hb
/-- a cipher that is ready, and what it does -/
def Ready (w : World) (v : Value) (key : List Nat) : Prop := ∃ g k ws, v = .pointer (some ⟨g, 0, none⟩) ∧ (k = 4 ∨ k = 6 ∨ k = 8) ∧ key.length = 4 * k ∧ Under 256 key ∧ Cph w g (k + 6) ws boxT ∧ Kws (keysL key) ws
theorem Ready.below {w w' : World} {v : Value} {key : List Nat} (h : Ready w v key) (hb : Below w.heap.size w w') : Ready w' v key := by
  obtain ⟨g, k, ws, h1, h2, h3, h4, h5, h6⟩ := h
  exact ⟨g, k, ws, h1, h2, h3, h4, h5.below hb, h6⟩
theorem Ready.there {w : World} {v : Value} {key s : List Nat} (h : Ready w v key) (hs : B16 s) :
    Calls Try.prog 35 #[v, .agg (arr .u32 (sw s))] w fun e w' => e = .returned (.agg (arr .u32 (sw (thA' key s)))) ∧ Below w.heap.size w w' := by
  obtain ⟨g, k, ws, rfl, h2, h3, h4, h5, h6⟩ := h
  have := cth_any g (k + 6) ws (keysL key) s w h5 h6 (keysL_under h4) (keysL_len h3) (by omega) (by omega) hs
  unfold thA'
  rw [show key.length / 4 = k by omega]
  exact this
def ReadyB (w : World) (v : Value) (key : List Nat) : Prop := ∃ d g k ws, v = .pointer (some ⟨d, 0, none⟩) ∧ (k = 4 ∨ k = 6 ∨ k = 8) ∧ key.length = 4 * k ∧ Under 256 key ∧ Dph w d g ∧ Cph w g (k + 6) ws boxT ∧ Kws (keysL key) ws
theorem ReadyB.below {w w' : World} {v : Value} {key : List Nat} (h : ReadyB w v key) (hb : Below w.heap.size w w') : ReadyB w' v key := by
  obtain ⟨d, g, k, ws, h1, h2, h3, h4, h7, h5, h6⟩ := h
  exact ⟨d, g, k, ws, h1, h2, h3, h4, h7.below hb, h5.below hb, h6⟩
theorem ReadyB.back {w : World} {v : Value} {key s : List Nat} (h : ReadyB w v key) (hs : B16 s) :
    Calls Try.prog 46 #[v, .agg (arr .u32 (sw s))] w fun e w' => e = .returned (.agg (arr .u32 (sw (bkA' key s)))) ∧ Below w.heap.size w w' := by
  obtain ⟨d, g, k, ws, rfl, h2, h3, h4, h7, h5, h6⟩ := h
  have := cbk_any d g (k + 6) ws (keysL key) s w h7 h5 h6 (keysL_under h4) (keysL_len h3) (by omega) (by omega) hs
  unfold bkA'
  rw [show key.length / 4 = k by omega]
  exact this
theorem fwd_ready {key : List Nat} {kv : Value} {w : World} (rk : Row .u8 256 w kv key) (hk : Sz3 key.length) :
    Calls Try.prog 34 #[kv] w fun e w' => ∃ v, e = .returned v ∧ Ready w' v key ∧ Below w.heap.size w w' := by
  obtain ⟨k, hk4, hl, _⟩ := hk.words
  refine (fwd_any k key kv w hk4 hl rk).mono ?_
  rintro e w' ⟨g, ws, rfl, h1, h2, h3, h4⟩
  exact ⟨_, rfl, ⟨g, k, ws, rfl, hk4, hl, rk.under, h1, h2⟩, h4⟩
theorem bwd_ready {key : List Nat} {kv : Value} {w : World} (rk : Row .u8 256 w kv key) (hk : Sz3 key.length) :
    Calls Try.prog 45 #[kv] w fun e w' => ∃ v, e = .returned v ∧ ReadyB w' v key ∧ Below w.heap.size w w' := by
  obtain ⟨k, hk4, hl, _⟩ := hk.words
  refine (bwd_of k key kv w (fun y r => fwd_any k key kv y hk4 hl r) rk).mono ?_
  rintro e w' ⟨d, g, ws, rfl, h0, h1, h2, h3, h4⟩
  exact ⟨_, rfl, ⟨d, g, k, ws, rfl, hk4, hl, rk.under, h0, h1, h2⟩, h4⟩
set_option maxHeartbeats 4000000 in
set_option maxRecDepth 100000 in
theorem cblk_ok (key b : List Nat) (kv bv : Value) (w : World) (rk : Row .u8 256 w kv key) (rb : Row .u8 256 w bv b) (hk : Sz3 key.length) (hb : b.length = 16) :
    Calls Try.prog 15 #[kv, bv] w fun e w' => ∃ v, e = .returned (.tuple #[v, .int .i64 0]) ∧ Row .u8 256 w' v (thA' key b) ∧ New w.heap.size v ∧ Below w.heap.size w w' := by
  have hf := fit_ok key b kv bv w rk rb hk hb
  have hB : B16 b := ⟨hb, rb.under⟩
  have hT := thA'_b rk.under hB
  have hfw := fwd_ready rk hk
  have hrd := fun y (r : Row .u8 256 y bv b) => read_any bv b y hb r
  have hon := fun y => onto_nil (thA' key b) y hT
  go_enter Try.func15, Try.ntmps15
  go_wp2_with (first
    | (go_at_call 33; refine hf.mono ?_; rintro e yy ⟨rfl, hy⟩; obtain rfl := hy.symm)
    | (go_at_call 34; refine hfw.mono ?_; rintro e w1 ⟨v1, rfl, r1, hb1⟩)
    | (go_at_call 36; refine (hrd _ (rb.below hb1)).mono ?_; rintro e w2 ⟨rfl, hb2⟩)
    | (go_at_call 35; refine ((r1.below hb2).there hB).mono ?_; rintro e w3 ⟨rfl, hb3⟩)
    | (go_at_call 37; refine (hon _).mono ?_; rintro e w4 ⟨v4, rfl, o4, hb4⟩)
    | fail)
  go_ret2
  have hb14 := keep_trans (keep_trans hb1 hb2) hb3
  exact ⟨_, rfl, o4.row, (o4.mono hb14.size).new, keep_trans hb14 hb4⟩
set_option maxHeartbeats 2000000 in
set_option maxRecDepth 100000 in
theorem cblk_size (key b : List Nat) (kv bv : Value) (w : World) (rk : Row .u8 256 w kv key) (rb : Row .u8 256 w bv b) (hk : Sz3 key.length) (hb : b.length ≠ 16) :
    Calls Try.prog 15 #[kv, bv] w fun e w' => e = .returned (.tuple #[.slice none 0 0, .int .i64 14]) ∧ Below w.heap.size w w' := by
  have hf := fit_size key b kv bv w rk rb hk hb
  go_enter Try.func15, Try.ntmps15
  go_wp2_with (first | (go_at_call 33; refine hf.mono ?_; rintro e w1 ⟨rfl, hy⟩; obtain rfl := hy.symm) | fail)
  go_ret2
  exact ⟨rfl, Below.refl _ _⟩
set_option maxHeartbeats 4000000 in
set_option maxRecDepth 100000 in
theorem cbak_ok (key b : List Nat) (kv bv : Value) (w : World) (rk : Row .u8 256 w kv key) (rb : Row .u8 256 w bv b) (hk : Sz3 key.length) (hb : b.length = 16) :
    Calls Try.prog 24 #[kv, bv] w fun e w' => ∃ v, e = .returned (.tuple #[v, .int .i64 0]) ∧ Row .u8 256 w' v (bkA' key b) ∧ New w.heap.size v ∧ Below w.heap.size w w' := by
  have hf := fit_ok key b kv bv w rk rb hk hb
  have hB : B16 b := ⟨hb, rb.under⟩
  have hT := bkA'_b rk.under hB
  have hfw := bwd_ready rk hk
  have hrd := fun y (r : Row .u8 256 y bv b) => read_any bv b y hb r
  have hon := fun y => onto_nil (bkA' key b) y hT
  go_enter Try.func24, Try.ntmps24
  go_wp2_with (first
    | (go_at_call 33; refine hf.mono ?_; rintro e yy ⟨rfl, hy⟩; obtain rfl := hy.symm)
    | (go_at_call 45; refine hfw.mono ?_; rintro e w1 ⟨v1, rfl, r1, hb1⟩)
    | (go_at_call 36; refine (hrd _ (rb.below hb1)).mono ?_; rintro e w2 ⟨rfl, hb2⟩)
    | (go_at_call 46; refine ((r1.below hb2).back hB).mono ?_; rintro e w3 ⟨rfl, hb3⟩)
    | (go_at_call 37; refine (hon _).mono ?_; rintro e w4 ⟨v4, rfl, o4, hb4⟩)
    | fail)
  go_ret2
  have hb14 := keep_trans (keep_trans hb1 hb2) hb3
  exact ⟨_, rfl, o4.row, (o4.mono hb14.size).new, keep_trans hb14 hb4⟩
set_option maxHeartbeats 2000000 in
set_option maxRecDepth 100000 in
theorem cbak_size (key b : List Nat) (kv bv : Value) (w : World) (rk : Row .u8 256 w kv key) (rb : Row .u8 256 w bv b) (hk : Sz3 key.length) (hb : b.length ≠ 16) :
    Calls Try.prog 24 #[kv, bv] w fun e w' => e = .returned (.tuple #[.slice none 0 0, .int .i64 14]) ∧ Below w.heap.size w w' := by
  have hf := fit_size key b kv bv w rk rb hk hb
  go_enter Try.func24, Try.ntmps24
  go_wp2_with (first | (go_at_call 33; refine hf.mono ?_; rintro e w1 ⟨rfl, hy⟩; obtain rfl := hy.symm) | fail)
  go_ret2
  exact ⟨rfl, Below.refl _ _⟩
set_option maxHeartbeats 2000000 in
set_option maxRecDepth 100000 in
theorem cbak_key (key : List Nat) (kv bv : Value) (w : World) (rk : Row .u8 256 w kv key) (hk : ¬ Sz3 key.length) :
    Calls Try.prog 24 #[kv, bv] w fun e w' => e = .returned (.tuple #[.slice none 0 0, .int .i64 10]) ∧ Below w.heap.size w w' := by
  have hf := fit_key key kv bv w rk hk
  go_enter Try.func24, Try.ntmps24
  go_wp2_with (first | (go_at_call 33; refine hf.mono ?_; rintro e w1 ⟨rfl, hy⟩; obtain rfl := hy.symm) | fail)
  go_ret2
  exact ⟨rfl, Below.refl _ _⟩
end Go.Proofs.Ytjnlkihhmenfnaa
