import Derived.Test.YtpmobjfhhkglbaaGreatDoorWyQ
import Derived.Test.YtpmobjfhhkglbaaGreatDoorWtE
import Derived.Test.YtpmobjfhhkglbaaGreatDoorWyF
import Derived.Test.YtpmobjfhhkglbaaGreatDoorWyH
import Derived.Test.YtpmobjfhhkglbaaGreatDoorWyN
import Derived.Test.YtpmobjfhhkglbaaGreatDoorLmM
import Derived.Test.YtpmobjfhhkglbaaGreatDoorHHsh
import Derived.ChangeKeysEq
set_option maxHeartbeats 8000000
set_option maxRecDepth 100000
namespace Go.Proofs.YtpmobjfhhkglbaaGreatDoor
open Go.RowKit
set_option linter.unusedVariables false
set_option linter.unusedSimpArgs false
theorem cell_row0Y (w : World) (us : Array Value) (t : TypeId) (i : Nat) (u : Value) (h : us[i]? = some u) : (w.alloc (.cells us t)).cell? ⟨w.heap.size, i, none⟩ = some u := by
  rw [World.cell?_alloc_at _ _ _ _ rfl]
  exact h
theorem fewY (g N : Nat) (len cp : Nat → Nat) (ad : Nat → Option Addr) (w : World) (hN : N ≤ 10) (hc : ∀ i, i < N → w.cell? ⟨g, i, none⟩ = some (.slice (ad i) (len i) (cp i))) :
    Calls Tryz.prog 5 #[.slice (some ⟨g, 0, none⟩) N N] w fun e w' => e = .returned (.bool (decide (∀ i, i < N → len i ≤ 300))) ∧ w' = w := by
  go_enter Tryz.func5, Tryz.ntmps5
  go_wp2
  go_loop [7] (fun i => ∃ k : Nat, k ≤ N ∧ i = .int .i64 k ∧ Hid (∀ j, j < k → len j ≤ 300)) (fun i => N - (intOf i).toNat)
  case atStart => exact ⟨0, Nat.zero_le _, rfl, hide (fun j hj => by omega)⟩
  case round =>
    obtain ⟨k, hk, rfl, HA⟩ := hrel
    by_cases hlt : k < N
    · have hcell := hc k hlt
      have hkN : (k : Int) < (N : Int) := by omega
      have z_k : (0 : Int) ≤ (k : Int) := Int.natCast_nonneg _
      obtain ⟨Q, hQ⟩ : ∃ x : Nat, x = k + 1 := ⟨_, rfl⟩
      have e_Q : (k : Int) + 1 = (Q : Int) := by omega
      have s_Q : IntKind.i64.wrap (Q : Int) = (Q : Int) := by rw [IntKind.wrap_i64]; omega
      by_cases hl : 300 < len k
      · have g1 : (300 : Int) < (len k : Int) := by omega
        have g2 : (len k : Int) > 300 := by omega
        have hd : decide (∀ i, i < N → len i ≤ 300) = false := decide_eq_false fun h => by have := h k hlt; omega
        have HD := hide hd
        clear hc hd hQ
        obtain ⟨n, hn⟩ : ∃ n, n = len k := ⟨_, rfl⟩
        rw [← hn] at hcell g1 g2
        generalize ad k = aa at *
        generalize cp k = cc at *
        go_wp2
        go_ret
        exact ⟨by rw [HD.out]; rfl, rfl⟩
      · have g1 : ¬ (300 : Int) < (len k : Int) := by omega
        have g2 : ¬ (len k : Int) > 300 := by omega
        have HB : Hid (∀ j, j < k + 1 → len j ≤ 300) := hide fun j hj => by
          by_cases e : j = k
          · rw [e]; omega
          · exact HA.out j (by omega)
        have HQ := hide hQ
        clear hc hQ
        obtain ⟨n, hn⟩ : ∃ n, n = len k := ⟨_, rfl⟩
        rw [← hn] at hcell g1 g2
        generalize ad k = aa at *
        generalize cp k = cc at *
        go_wp2
        go_round
        case rel => exact ⟨k + 1, by omega, vint (by have := HQ.out; omega), HB⟩
        case measure => have := HQ.out; simp [intOf]; omega
    · obtain rfl : k = N := by omega
      have hd : decide (∀ i, i < k → len i ≤ 300) = true := decide_eq_true HA.out
      have hge : ¬ ((k : Int) < (k : Int)) := by omega
      have HD := hide hd
      clear hc hd
      go_wp2
      go_ret
      exact ⟨by rw [HD.out]; rfl, rfl⟩
theorem few3Y (a0 a1 a2 : Option Addr) (n0 n1 n2 c0 c1 c2 : Nat) (w : World) :
    Calls Tryz.prog 5 #[.slice (some ⟨w.heap.size, 0, none⟩) 3 3] (w.alloc (.cells #[.slice a0 n0 c0, .slice a1 n1 c1, .slice a2 n2 c2] 27)) fun e w' => e = .returned (.bool (decide (n0 ≤ 300 ∧ n1 ≤ 300 ∧ n2 ≤ 300))) ∧ Below w.heap.size w w' := by
  have h := fewY w.heap.size 3 (fun i => if i = 0 then n0 else if i = 1 then n1 else n2) (fun i => if i = 0 then c0 else if i = 1 then c1 else c2) (fun i => if i = 0 then a0 else if i = 1 then a1 else a2) (w.alloc (.cells #[.slice a0 n0 c0, .slice a1 n1 c1, .slice a2 n2 c2] 27)) (by decide) (fun i hi => by
    match i, hi with
    | 0, _ => exact cell_row0Y _ _ _ _ _ rfl
    | 1, _ => exact cell_row0Y _ _ _ _ _ rfl
    | 2, _ => exact cell_row0Y _ _ _ _ _ rfl)
  refine h.mono fun e w' hh => ⟨?_, by rw [hh.2]; exact keep_alloc _ _⟩
  rw [hh.1]
  congr 2
  refine decide_eq_decide.2 ⟨fun h => ⟨h 0 (by decide), h 1 (by decide), h 2 (by decide)⟩, ?_⟩
  rintro ⟨h0, h1, h2⟩ i hi
  match i, hi with
  | 0, _ => exact h0
  | 1, _ => exact h1
  | 2, _ => exact h2
theorem wpList_buildY {ops : Array Oper} {rest : List Oper} {o : Oper} {a : Act} {w : World} {Q : Exit → Act → World → Prop} (hg : Region.wanted o (yielded ops a.tmps) = true) (t : TypeId) (ho : o.op = .build t #[]) (cells : Array Value)
    (hr : (Instr.build t #[]).run Tryz.prog w = .ok (.agg cells) w)
    (h : wpList Tryz.prog ops Q rest (a.put o.dst (.agg cells)) w) : wpList Tryz.prog ops Q (o :: rest) a w := by
  refine BigFrame.wpList_want hg fun K hK => ?_
  unfold Oper.wp execOp
  simp only [ho, List.map_toArray, List.map_nil]
  simp [Sem.run_bind, hr]
  exact hK _ _ h
theorem build_ad (w : World) : (Instr.build 25 #[]).run Tryz.prog w = .ok (.agg (arr .u8 zP)) w := by kernel_rfl
theorem dg_zero : dgW 16 (List.replicate 16 0) = List.replicate 32 0 ++ [1, 14, 0] := by decide
theorem awakeY_any (w : World) : Calls Tryz.prog 6 #[] w fun e w' => e = .returned (.bool true) ∧ Below w.heap.size w w' := by
  obtain ⟨i0, hi, hz0, hz1, hz2⟩ := info_parts Tryz.info5
  have hz := zeroAd
  have hPz : Pl zP := ⟨by decide, fun x hx => by rw [List.eq_of_mem_replicate (show x ∈ List.replicate 32 0 from hx)]; decide⟩
  have hdg := fun y dv (r : Row .u8 256 y dv (List.replicate 16 0)) (t : Tidy dv) => wdig_ok (.inl rfl) _ dv y r t (List.length_replicate)
  rw [dg_zero] at hdg
  have hp1 := fun y => wput_any zP 4 7 y hPz (by decide)
  have h1 := hPz.put 4 7
  have hp2 := fun y => wput_any (putA zP 4 7) 2 2 y h1 (by decide)
  have h2 := h1.put 2 2
  have e1 : el (putA zP 4 7) 27 = 7 := by decide
  have e2 : el (putA (putA zP 4 7) 2 2) 19 = 2 := by decide
  have e3 : el (putA (putA zP 4 7) 2 2) 27 = 0 := by decide
  generalize putA (putA zP 4 7) 2 2 = A2 at *
  generalize putA zP 4 7 = A1 at *
  have hix : ∀ w : World, (Instr.index 25 (.agg (arr .u8 A1)) (.int .i64 27)).run Tryz.prog w = .ok (.int .u8 7) w := fun w => by
    have h := index_arr (P := Tryz.prog) 25 5 32 .u8 A1 Tryz.underlying25 Tryz.underlying5 (by kernel_rfl) h1.1 27 (by decide) w
    rw [e1] at h
    exact h
  have hl35 : (List.replicate 32 0 ++ [1, 14, 0]).length = 35 := by decide
  have d0 : el (List.replicate 32 0 ++ [1, 14, 0]) 0 = 0 := by decide
  have d32 : el (List.replicate 32 0 ++ [1, 14, 0]) 32 = 1 := by decide
  have d33 : el (List.replicate 32 0 ++ [1, 14, 0]) 33 = 14 := by decide
  have d34 : el (List.replicate 32 0 ++ [1, 14, 0]) 34 = 0 := by decide
  generalize List.replicate 32 0 ++ [1, 14, 0] = DS at *
  have ZR : Under 256 (List.replicate 16 0) := Under.replicate 256 16 (by decide)
  have hl2 := h2.1
  have hzl : zP.length = 32 := by decide
  have hbz := build_ad
  generalize zP = ZP at *
  go_enter Tryz.func6, Tryz.ntmps6
  go_wp2_with (first
    | (at_make; refine wpList_make_full _ rfl _ _ 27 rfl w.heap.size 5 i0 (.int .u8 0) 1 Tryz.underlying27 hi hz0 hz1 _ _ _ _ 16 rfl rfl rfl rfl (by rw [hz2]; omega) (by unfold maxLen; omega) (Nat.le_refl _) ?_; intro w1 hown hgrow; have kw := (Below.refl w.heap.size w).grown hgrow (Nat.le_refl _) (fun k h => by cases h); rw [made_u8] at hown; have ow : Own 5 .u8 256 w1 w.heap.size (.slice (some ⟨w.heap.size, 0, none⟩) 16 16) (List.replicate 16 0) := ⟨by rw [List.length_replicate]; exact hown, ZR⟩)
    | (go_at_call 12; refine (hdg _ _ ow.row tidy_someW).mono ?_; rintro e w2 ⟨v2, rfl, o2, hb2⟩; obtain ⟨da, dc, rfl, _, _, hcl⟩ := o2.row.opens hl35; obtain ⟨db, do_, rfl, hcell⟩ := hcl (by decide); have c0 := hcell 0 (by decide); rw [Nat.add_zero] at c0; have c32 := hcell 32 (by decide); have c33 := hcell 33 (by decide); have c34 := hcell 34 (by decide); rw [d0] at c0; rw [d32] at c32; rw [d33] at c33; rw [d34] at c34; clear hcl hcell)
    | (refine wpList_buildY (by rfl) 25 (by rfl) (arr .u8 ZP) (hbz _) ?_)
    | (go_at_call 9; have hp1x := hp1; clear hp1; refine (hp1x _).mono ?_; rintro e w3 ⟨rfl, hb3⟩)
    | (go_at_call 9; have hu2 := hp2; clear hp2; refine (hu2 _).mono ?_; rintro e w4 ⟨rfl, hb4⟩; have hn4 := heap_alloc_last w4 (.cells (arr .u8 ZP) 25))
    | (refine wpList_store_row rfl 25 _ _ (by rfl) w4.heap.size (arr .u8 A2) (by rfl) (by rfl) _ _ hn4 (by rw [arr_size, hl2]; kernel_rfl) (by rw [arr_size, arr_size, hl2, hzl]) (arr_one _ _) ?_; have ka := keep_alloc w4 (.cells (arr .u8 ZP) 25); have kz := keep_trans (keep_trans hb3 hb4) (ka.trans (((But.refl w4.heap.size (w4.alloc (.cells (arr .u8 ZP) 25))).setRow (arr .u8 A2)).below (Nat.le_refl _) ka.size)); have Lz : Lies .u8 25 ((w4.alloc (.cells (arr .u8 ZP) 25)).setRow w4.heap.size (arr .u8 A2)) w4.heap.size A2 := setRow_heap _ _ _ _ _ _ hn4; have x0 := keep_cell c0 kz; have x32 := keep_cell c32 kz; have x33 := keep_cell c33 kz; have x34 := keep_cell c34 kz; have x19 := Lz.cell (i := 19) (by rw [hl2]; decide); have x27 := Lz.cell (i := 27) (by rw [hl2]; decide); rw [e2] at x19; rw [e3] at x27)
    | (go_at_call 9; refine (hp1x _).mono ?_; rintro e w6 ⟨rfl, hb6⟩)
    | fail)
  go_ret
  exact ⟨rfl, keep_trans (keep_trans (keep_trans kw hb2) kz) hb6⟩
section
variable {N : Nat} {H D A K : Int}
theorem rpubW_no (sh : Bool) (a : List Nat) (sa pa : Option Addr) (sl sc pl pc : Nat) (w : World) (h : ¬ (sl = N ∧ pl = N)) :
    Calls Tryz.prog 20 #[slV (N : Int) H D A K sh, .slice sa sl sc, .slice pa pl pc, .agg (arr .u8 a)] w fun e w' => e = .returned (.slice none 0 0) ∧ Below w.heap.size w w' := by
  obtain ⟨bx, La, k0⟩ := boxW (N := N) (H := H) (D := D) (A := A) (K := K) w sh (a := a)
  have hwr := fun y => rwrongW_no (H := H) (D := D) (A := A) (K := K) (N : Int) sh sa pa sl sc pl pc y (fun e => h ⟨by omega, by omega⟩)
  unfold slV at hwr ⊢
  clear h
  go_enter Tryz.func20, Tryz.ntmps20
  go_wp2_with (first
    | (refine wpList_load_rowS (by rfl) 23 _ (by rfl) w.heap.size (by rfl) _ _ _ _ bx.here Tryz.underlying23 (by kernel_rfl) ?_)
    | (go_at_call 45; refine (hwr _).mono ?_; rintro e w1 ⟨rfl, g1⟩)
    | fail)
  go_ret
  exact ⟨rfl, keep_trans k0 g1⟩
theorem rsgnW_no (sh : Bool) (a : List Nat) (ta sa pa : Option Addr) (tl tc sl sc pl pc : Nat) (w : World) (hF : FitX (N : Int) H D A K) (h : ¬ (tl = N ∧ sl = N ∧ pl = N)) :
    Calls Tryz.prog 22 #[slV (N : Int) H D A K sh, .slice ta tl tc, .slice sa sl sc, .slice pa pl pc, .agg (arr .u8 a)] w fun e w' => e = .returned (.slice none 0 0) ∧ Below w.heap.size w w' := by
  obtain ⟨bx, La, k0⟩ := boxW (N := N) (H := H) (D := D) (A := A) (K := K) w sh (a := a)
  by_cases h1 : sl = N ∧ pl = N
  · have hwr := fun y => rwrongW_ok (N := N) (H := H) (D := D) (A := A) (K := K) sh sa pa sc pc y hF
    rw [h1.1, h1.2]
    have b1 : ((tl : Int) != (N : Int)) = true := by simp; omega
    unfold slV at hwr ⊢
    clear h h1 hF
    go_enter Tryz.func22, Tryz.ntmps22
    go_wp2_with (first
      | (refine wpList_load_rowS (by rfl) 23 _ (by rfl) w.heap.size (by rfl) _ _ _ _ bx.here Tryz.underlying23 (by kernel_rfl) ?_)
      | (go_at_call 45; refine (hwr _).mono ?_; rintro e w1 ⟨rfl, g1⟩; have d0 := (bx.below g1).c0)
      | fail)
    go_ret
    exact ⟨rfl, keep_trans k0 g1⟩
  · have hwr := fun y => rwrongW_no (H := H) (D := D) (A := A) (K := K) (N : Int) sh sa pa sl sc pl pc y (fun e => h1 ⟨by omega, by omega⟩)
    unfold slV at hwr ⊢
    clear h h1 hF
    go_enter Tryz.func22, Tryz.ntmps22
    go_wp2_with (first
      | (refine wpList_load_rowS (by rfl) 23 _ (by rfl) w.heap.size (by rfl) _ _ _ _ bx.here Tryz.underlying23 (by kernel_rfl) ?_)
      | (go_at_call 45; refine (hwr _).mono ?_; rintro e w1 ⟨rfl, g1⟩)
      | fail)
    go_ret
    exact ⟨rfl, keep_trans k0 g1⟩
theorem rcndW_no (sh : Bool) (a : List Nat) (ga ta pa : Option Addr) (gl gc tl tc pl pc : Nat) (w : World) (hF : FitX (N : Int) H D A K) (h : ¬ (gl = N * (2 * N + 3) ∧ tl = N ∧ pl = N)) :
    Calls Tryz.prog 24 #[slV (N : Int) H D A K sh, .slice ga gl gc, .slice ta tl tc, .slice pa pl pc, .agg (arr .u8 a)] w fun e w' => e = .returned (.slice none 0 0) ∧ Below w.heap.size w w' := by
  obtain ⟨bx, La, k0⟩ := boxW (N := N) (H := H) (D := D) (A := A) (K := K) w sh (a := a)
  have hN := fitN hF
  by_cases h1 : tl = N ∧ pl = N
  · have hwr := fun y => rwrongW_ok (N := N) (H := H) (D := D) (A := A) (K := K) sh ta pa tc pc y hF
    obtain ⟨M, hM⟩ : ∃ M, M = 2 * N + 3 := ⟨_, rfl⟩
    obtain ⟨Z, hZ⟩ : ∃ Z, Z = N * M := ⟨_, rfl⟩
    have hZb : Z ≤ 50000 := by
      rw [hZ, hM]
      calc N * (2 * N + 3) ≤ 32 * (2 * 32 + 3) := Nat.mul_le_mul hN.2 (by omega)
        _ ≤ 50000 := by decide
    rw [← hM, ← hZ] at h
    obtain ⟨N2, hN2⟩ : ∃ x, x = 2 * N := ⟨_, rfl⟩
    have e_2 : (2 : Int) * (N : Int) = (N2 : Int) := by omega
    have s_2 : IntKind.i64.wrap (N2 : Int) = (N2 : Int) := by rw [IntKind.wrap_i64]; omega
    have e_3 : (N2 : Int) + 3 = (M : Int) := by omega
    have s_3 : IntKind.i64.wrap (M : Int) = (M : Int) := by rw [IntKind.wrap_i64]; omega
    have e_Z : (N : Int) * (M : Int) = (Z : Int) := by rw [hZ]; norm_cast
    have s_Z : IntKind.i64.wrap (Z : Int) = (Z : Int) := by rw [IntKind.wrap_i64]; omega
    have b1 : ((gl : Int) != (Z : Int)) = true := by simp; intro e; exact h ⟨by omega, h1.1, h1.2⟩
    rw [h1.1, h1.2]
    unfold slV at hwr ⊢
    clear h h1 hF hM hZ hN2 hZb hN
    go_enter Tryz.func24, Tryz.ntmps24
    go_wp2_with (first
      | (refine wpList_load_rowS (by rfl) 23 _ (by rfl) w.heap.size (by rfl) _ _ _ _ bx.here Tryz.underlying23 (by kernel_rfl) ?_)
      | (go_at_call 45; refine (hwr _).mono ?_; rintro e w1 ⟨rfl, g1⟩; have d0 := (bx.below g1).c0)
      | fail)
    go_ret
    exact ⟨rfl, keep_trans k0 g1⟩
  · have hwr := fun y => rwrongW_no (H := H) (D := D) (A := A) (K := K) (N : Int) sh ta pa tl tc pl pc y (fun e => h1 ⟨by omega, by omega⟩)
    unfold slV at hwr ⊢
    clear h h1 hF
    go_enter Tryz.func24, Tryz.ntmps24
    go_wp2_with (first
      | (refine wpList_load_rowS (by rfl) 23 _ (by rfl) w.heap.size (by rfl) _ _ _ _ bx.here Tryz.underlying23 (by kernel_rfl) ?_)
      | (go_at_call 45; refine (hwr _).mono ?_; rintro e w1 ⟨rfl, g1⟩)
      | fail)
    go_ret
    exact ⟨rfl, keep_trans k0 g1⟩
end
section
variable {N : Nat} {H D A K : Int}
def TellsY (f : FuncId) (args : Array Value) (X : List Nat) (w : World) : Prop := ∀ y, Below w.heap.size w y → Calls Tryz.prog f args y fun e w' => ∃ v, e = .returned v ∧ Row .u8 256 w' v X ∧ Below y.heap.size y w'
theorem both_pubY (sh : Bool) (pub a secret : List Nat) (pv sv : Value) (w : World) (hC : Csts w) (hT : Roots w) (hF : FitX (N : Int) H D A K) (ha : Pl a) (hp : Row .u8 256 w pv pub) (tp : Tidy pv) (hs : Row .u8 256 w sv secret) (ts : Tidy sv) :
    ∃ X, TellsY 19 #[slV (N : Int) H D A K sh, sv, pv, .agg (arr .u8 a)] X w ∧ TellsY 20 #[slV (N : Int) H D A K sh, sv, pv, .agg (arr .u8 a)] X w := by
  by_cases hl : secret.length = N ∧ pub.length = N
  · obtain ⟨hsl, hpl⟩ := hl
    refine ⟨wpb (fun p x => sumW N sh pub p x) a N secret, fun y k => ?_, fun y k => ?_⟩
    · exact (wpub_ok sh pub a secret pv sv y (hC.below k) (hT.below k) hF ha (hp.below k) tp (hs.below k) ts hpl hsl).mono fun e w' ⟨v, h1, h2, _, h4⟩ => ⟨v, h1, h2, h4⟩
    · exact (rpubW_ok sh pub a secret pv sv y hF ha (hp.below k) tp (hs.below k) ts hpl hsl).mono fun e w' ⟨v, h1, h2, _, h4⟩ => ⟨v, h1, h2, h4⟩
  · obtain ⟨pa, pc, rfl, _⟩ := hp.opens rfl
    obtain ⟨sa, sc, rfl, _⟩ := hs.opens rfl
    refine ⟨[], fun y k => ?_, fun y k => ?_⟩
    · exact (wpub_no sh a sa pa _ sc _ pc y hF hl).mono fun e w' ⟨h1, h4⟩ => ⟨_, h1, Row.nil _ _ _, h4⟩
    · exact (rpubW_no sh a sa pa _ sc _ pc y hl).mono fun e w' ⟨h1, h4⟩ => ⟨_, h1, Row.nil _ _ _, h4⟩
theorem both_sgnY (sh : Bool) (pub a secret text : List Nat) (pv sv tv : Value) (w : World) (hC : Csts w) (hT : Roots w) (hF : FitX (N : Int) H D A K) (ha : Pl a) (hp : Row .u8 256 w pv pub) (tp : Tidy pv) (hs : Row .u8 256 w sv secret) (ts : Tidy sv) (ht : Row .u8 256 w tv text) (tt : Tidy tv) :
    ∃ X, TellsY 21 #[slV (N : Int) H D A K sh, tv, sv, pv, .agg (arr .u8 a)] X w ∧ TellsY 22 #[slV (N : Int) H D A K sh, tv, sv, pv, .agg (arr .u8 a)] X w := by
  by_cases hl : text.length = N ∧ secret.length = N ∧ pub.length = N
  · obtain ⟨htl, hsl, hpl⟩ := hl
    refine ⟨(wsP (fun p x => sumW N sh pub p x) a (dgW N text) secret).flatten, fun y k => ?_, fun y k => ?_⟩
    · exact (wsgn_ok sh pub a secret text pv sv tv y (hC.below k) (hT.below k) hF ha (hp.below k) tp (hs.below k) ts (ht.below k) tt htl hpl hsl).mono fun e w' ⟨v, h1, h2, _, h4⟩ => ⟨v, h1, h2, h4⟩
    · exact (rsgnW_ok sh pub a secret text pv sv tv y hF ha (hp.below k) tp (hs.below k) ts (ht.below k) tt htl hpl hsl).mono fun e w' ⟨v, h1, h2, _, h4⟩ => ⟨v, h1, h2, h4⟩
  · obtain ⟨sa, sc, hsv, _⟩ := hs.opens rfl
    obtain ⟨ta, tc, rfl, _⟩ := ht.opens rfl
    obtain ⟨pa, pc, hpv, _⟩ := hp.opens rfl
    refine ⟨[], fun y k => ?_, fun y k => ?_⟩
    · by_cases h2 : secret.length = N ∧ pub.length = N
      · obtain ⟨hsl, hpl⟩ := h2
        rw [hsv, hsl]
        exact (wsgn_no2 sh a pub pv ta sa _ tc sc y hF (hC.below k) (hT.below k) (hp.below k) tp hpl (fun h => hl ⟨h, hsl, hpl⟩)).mono fun e w' ⟨h1, h4⟩ => ⟨_, h1, Row.nil _ _ _, h4⟩
      · rw [hsv, hpv]
        exact (wsgn_no1 sh a ta sa pa _ tc _ sc _ pc y hF h2).mono fun e w' ⟨h1, h4⟩ => ⟨_, h1, Row.nil _ _ _, h4⟩
    · rw [hsv, hpv]
      exact (rsgnW_no sh a ta sa pa _ tc _ sc _ pc y hF hl).mono fun e w' ⟨h1, h4⟩ => ⟨_, h1, Row.nil _ _ _, h4⟩
theorem both_cndY (sh : Bool) (pub a text sig : List Nat) (pv tv gv : Value) (w : World) (hC : Csts w) (hT : Roots w) (hF : FitX (N : Int) H D A K) (ha : Pl a) (hp : Row .u8 256 w pv pub) (tp : Tidy pv) (ht : Row .u8 256 w tv text) (tt : Tidy tv) (hg : Row .u8 256 w gv sig) :
    ∃ X, TellsY 23 #[slV (N : Int) H D A K sh, gv, tv, pv, .agg (arr .u8 a)] X w ∧ TellsY 24 #[slV (N : Int) H D A K sh, gv, tv, pv, .agg (arr .u8 a)] X w := by
  by_cases hl : sig.length = N * (2 * N + 3) ∧ text.length = N ∧ pub.length = N
  · obtain ⟨hgl, htl, hpl⟩ := hl
    refine ⟨wky (fun p x => sumW N sh pub p x) a (wcE (fun p x => sumW N sh pub p x) a N (dgW N text) sig), fun y k => ?_, fun y k => ?_⟩
    · exact (wcnd_ok sh pub a text sig pv tv gv y (hC.below k) (hT.below k) hF ha (hp.below k) tp (ht.below k) tt (hg.below k) htl hgl hpl).mono fun e w' ⟨v, h1, h2, _, h4⟩ => ⟨v, h1, h2, h4⟩
    · exact (rcndW_ok sh pub a text sig pv tv gv y hF ha (hp.below k) tp (ht.below k) tt (hg.below k) htl hgl hpl).mono fun e w' ⟨v, h1, h2, _, h4⟩ => ⟨v, h1, h2, h4⟩
  · obtain ⟨ga, gc, rfl, _⟩ := hg.opens rfl
    obtain ⟨ta, tc, htv, _⟩ := ht.opens rfl
    obtain ⟨pa, pc, hpv, _⟩ := hp.opens rfl
    refine ⟨[], fun y k => ?_, fun y k => ?_⟩
    · by_cases hpl : pub.length = N
      · by_cases htl : text.length = N
        · rw [htv, htl]
          exact (wcnd_no3 sh a pub pv ga ta _ gc tc y hF (hC.below k) (hT.below k) (hp.below k) tp hpl (fun h => hl ⟨h, htl, hpl⟩)).mono fun e w' ⟨h1, h4⟩ => ⟨_, h1, Row.nil _ _ _, h4⟩
        · rw [htv]
          exact (wcnd_no2 sh a pub pv ga ta _ gc _ tc y hF (hC.below k) (hT.below k) (hp.below k) tp hpl htl).mono fun e w' ⟨h1, h4⟩ => ⟨_, h1, Row.nil _ _ _, h4⟩
      · rw [htv, hpv]
        exact (wcnd_no1 sh a ga ta pa _ gc _ tc _ pc y hF hpl).mono fun e w' ⟨h1, h4⟩ => ⟨_, h1, Row.nil _ _ _, h4⟩
    · rw [htv, hpv]
      exact (rcndW_no sh a ga ta pa _ gc _ tc _ pc y hF hl).mono fun e w' ⟨h1, h4⟩ => ⟨_, h1, Row.nil _ _ _, h4⟩
end
end Go.Proofs.YtpmobjfhhkglbaaGreatDoor
