/- The code's there. -/
import Derived.Test.YtjeofkemfpdieaaACol
import Derived.Deep.DeepCutAuto
import Derived.Test.YtjeofkemfpdieaaJDb
import Derived.Test.YtjeofkemfpdieaaAMul
import Derived.Test.YtjeofkemfpdieaaJFw
import Derived.Test.YtjeofkemfpdieaaQcF
import Derived.Test.YtjeofkemfpdieaaQcR
import Derived.Test.YtjeofkemfpdieaaJIt
import Derived.Test.YtjeofkemfpdieaaBase
import Derived.Test.YtjeofkemfpdieaaGGh
import Derived.Lib.AppendZerosOnto
import Derived.Lib.Walk
import Derived.Lib.SliceRun
import Derived.WalkKit
namespace Go.Proofs.Ytjeofkemfpdieaa
open Go.RowKit
set_option linter.unusedVariables false
set_option linter.unusedSimpArgs false

theorem arr4 (k : IntKind) (l : List Nat) (h : l.length = 4) : arr k l = #[.int k (el l 0), .int k (el l 1), .int k (el l 2), .int k (el l 3)] := by
  match l, h with
  | [a, b, c, d], _ => rfl
theorem four_set {l x : List Nat} (h : l.length = 4) (hx : x.length = 4) : (((l.set 0 (el x 0)).set 1 (el x 1)).set 2 (el x 2)).set 3 (el x 3) = x := by
  match l, h, x, hx with
  | [_, _, _, _], _, [_, _, _, _], _ => rfl
theorem Lies.four {k : IntKind} {t : TypeId} {w : World} {g : Nat} {l : List Nat} (h : Lies k t w g l) (hl : l.length = 4) (x : List Nat) (hx : x.length = 4) :
    Lies k t ((((w.setCell ⟨g, 0, none⟩ (.int k (el x 0))).setCell ⟨g, 1, none⟩ (.int k (el x 1))).setCell ⟨g, 2, none⟩ (.int k (el x 2))).setCell ⟨g, 3, none⟩ (.int k (el x 3))) g x := by
  have := (((h.set 0 (el x 0)).set 1 (el x 1)).set 2 (el x 2)).set 3 (el x 3)
  rw [four_set hl hx] at this
  exact this
theorem But.four {g : Nat} {a w : World} (h : But g a w) (u0 u1 u2 u3 : Value) : But g a ((((w.setCell ⟨g, 0, none⟩ u0).setCell ⟨g, 1, none⟩ u1).setCell ⟨g, 2, none⟩ u2).setCell ⟨g, 3, none⟩ u3) := (((h.setCell 0 _).setCell 1 _).setCell 2 _).setCell 3 _
theorem Lies.all4 {k : IntKind} {t : TypeId} {w : World} {g : Nat} {l : List Nat} (h : Lies k t w g l) (hl : l.length = 4) :
    w.cell? ⟨g, 0, none⟩ = some (.int k (el l 0)) ∧ w.cell? ⟨g, 1, none⟩ = some (.int k (el l 1)) ∧ w.cell? ⟨g, 2, none⟩ = some (.int k (el l 2)) ∧ w.cell? ⟨g, 3, none⟩ = some (.int k (el l 3)) ∧ w.frozen? ⟨g, 0, none⟩ = false ∧ w.frozen? ⟨g, 1, none⟩ = false ∧ w.frozen? ⟨g, 2, none⟩ = false ∧ w.frozen? ⟨g, 3, none⟩ = false :=
  ⟨h.cell (by omega), h.cell (by omega), h.cell (by omega), h.cell (by omega), h.frozen 0, h.frozen 1, h.frozen 2, h.frozen 3⟩
/-- where the loop stands: behind k rounds -/
def CtL (w : World) (ks s : List Nat) (n : Nat) (vr : Value) (wr : World) : Prop := ∃ k : Nat, k + 1 ≤ n ∧ vr = .int .i64 ((k + 1 : Nat) : Int) ∧ Lies .u32 81 wr w.heap.size (sw (thN n ks k s)) ∧ Lies .u32 81 wr (w.heap.size + 1) (zA 4) ∧ Below w.heap.size w wr
set_option maxHeartbeats 10000000 in
set_option maxRecDepth 100000 in
theorem cth_any (g n : Nat) (ws ks s : List Nat) (w : World) (hC : Cph w g n ws boxT) (hK : Kws ks ws) (hku : Under 256 ks) (hkl : ks.length = 16 * (n + 1)) (hn1 : 1 ≤ n) (hn : n ≤ 14) (hs : B16 s) :
    Calls Try.prog 60 #[.pointer (some ⟨g, 0, none⟩), .agg (arr .u32 (sw s))] w fun e w' => e = .returned (.agg (arr .u32 (sw (thN n ks n s)))) ∧ Below w.heap.size w w' := by
  have hz := zero4
  have L0 := (Lies.new .u32 81 w (sw s)).alloc (.cells (arr .u32 (zA 4)) 81)
  have L2 := Lies.new .u32 81 (w.alloc (.cells (arr .u32 (sw s)) 81)) (zA 4)
  have hb0 := keep_trans (keep_alloc w (.cells (arr .u32 (sw s)) 81)) (keep_alloc _ (.cells (arr .u32 (zA 4)) 81))
  simp only [World.size_alloc, Nat.add_assoc, Nat.reduceAdd] at L2
  have go := hC.old
  have hky := fun y (r : Nat) (s' : List Nat) (hr : r ≤ n) (hs' : B16 s') (hb : Below w.heap.size w y) => keyed_any g n r ws boxT ks s' y (hC.below hb) hK hku (by omega) (by omega) hs'
  have hmv := fun y (s' : List Nat) (hs' : B16 s') (hb : Below w.heap.size w y) => moved_any g 61 boxT s' 1 y (by decide) hs' boxT_under (hC.below hb).tab (hC.below hb).old
  have HKY := hide hky
  have HMV := hide hmv
  have hcr := fun y (hb : Below w.heap.size w y) => (hC.below hb).rounds
  have HCR := hide hcr
  clear hky hmv hcr
  have lS := sw_len s
  have k0 := HKY.out _ 0 s (Nat.zero_le _) hs hb0
  have e0 : keyAt ks 0 s = thN n ks 0 s := rfl
  rw [e0] at k0
  have lS1 := sw_len (thN n ks 0 s)
  have HZ := hide (And.intro L0 (And.intro L2 hb0))
  clear e0 hb0
  generalize hS0 : sw s = S0 at *
  clear hS0
  generalize hS1 : sw (thN n ks 0 s) = S1 at *
  have HS1 := hide hS1
  clear hS1
  go_enter Try.func60, Try.ntmps60
  go_wp2_with (first
    | (refine wpList_load_row rfl 81 _ (by rfl) w.heap.size (by rfl) _ _ _ (.array 4 69) L0 (by kernel_rfl) rfl (by rw [arr_size, lS]; kernel_rfl) ?_)
    | (go_at_call 72; refine k0.mono ?_; rintro e w1 ⟨rfl, hb1⟩)
    | (refine wpList_store_row rfl 81 _ _ (by rfl) w.heap.size (arr .u32 S1) (by rfl) (by rfl) _ _ (L0.below hb1) (by rw [arr_size, lS1]; kernel_rfl) (by rw [arr_size, arr_size, lS, lS1]) (arr_one _ _) ?_)
    | fail)
  have bA : But w.heap.size w1 (w1.setRow w.heap.size (arr .u32 S1)) := (But.refl _ _).setRow _
  obtain ⟨_, L2', hb0⟩ := HZ.out
  have hb2 := keep_trans hb0 hb1
  have H0 : Hid (CtL w ks s n (.int .i64 1) (w1.setRow w.heap.size (arr .u32 S1))) := hide ⟨0, by omega, rfl, by rw [HS1.out]; exact (L0.below hb1).row, (L2'.below hb1).but bA (by omega), hb2.trans (bA.below (by omega) hb2.size)⟩
  clear L0 L2 L2' hb0 hb1 hb2 bA HZ k0 hz HS1 lS lS1
  generalize w1.setRow w.heap.size (arr .u32 S1) = x1 at *
  go_loopw [5] (fun vr wr => CtL w ks s n vr wr) (fun vr _ => n - (intOf vr).toNat)
  case atStart => exact H0.out
  case round =>
    obtain ⟨k, hk, rfl, hA, h2, hbr⟩ := hrel
    clear H0
    have hcr := HCR.out wr hbr
    have bk := thN_b (n := n) hku hs k
    have be := eachL_b (fun c h => boxT_lt h) bk
    have br := rowsL_b be
    have bc : B16 (colsL 2 3 1 1 (rowsL (eachL boxT (thN n ks k s)))) := colsL_b (by decide) (by decide) (by decide) (by decide)
    obtain ⟨k1, hk1⟩ : ∃ x : Nat, x = k + 1 := ⟨_, rfl⟩
    have hmv1 := HMV.out wr.drew (thN n ks k s) bk (hbr.drew)
    rw [mv_left] at hmv1
    have lA : (sw (thN n ks k s)).length = 4 := rfl
    have lM : (sw (rowsL (eachL boxT (thN n ks k s)))).length = 4 := rfl
    rw [arr4 .u32 (sw (thN n ks k s)) rfl] at hmv1
    obtain ⟨z0, z1, z2, z3, p0, p1, p2, p3⟩ := hA.all4 rfl
    have HA := hide hA
    have HH2 := hide h2
    have HK1 := hide hk1
    by_cases hlt : k + 1 < n
    · have hlti : (k1 : Int) < (n : Int) := by omega
      have hsp : thN n ks k1 s = keyAt ks k1 (colsL 2 3 1 1 (rowsL (eachL boxT (thN n ks k s)))) := by
        rw [hk1]; show stepT n ks (k + 1) (thN n ks k s) = _; unfold stepT; rw [if_pos hlt]
      have hmx := fun y => mixed_any (rowsL (eachL boxT (thN n ks k s))) y br
      have hky := fun y (hb : Below w.heap.size w y) => HKY.out y k1 _ (by omega) bc hb
      rw [← hsp] at hky
      have lN : (sw (thN n ks k1 s)).length = 4 := rfl
      rw [arr4 .u32 (sw (thN n ks k1 s)) rfl] at hky
      generalize hN : sw (thN n ks k1 s) = SN at *
      have HN := hide hN
      rw [← hk1]
      clear hsp hN hk1 hA h2
      generalize sw (colsL 2 3 1 1 (rowsL (eachL boxT (thN n ks k s)))) = SC at *
      generalize sw (rowsL (eachL boxT (thN n ks k s))) = SR at *
      generalize sw (thN n ks k s) = SK at *
      obtain ⟨k2, hk2⟩ : ∃ x : Nat, x = k1 + 1 := ⟨_, rfl⟩
      have e_k2 : (k1 : Int) + 1 = (k2 : Int) := by omega
      have s_k2 : IntKind.i64.wrap (k2 : Int) = (k2 : Int) := by rw [IntKind.wrap_i64]; omega
      have HK2 := hide hk2
      clear hk2
      go_wp2
      go_region_with (first
        | (go_at_call 73; refine hmv1.mono ?_; rintro e w3 ⟨rfl, hb3⟩)
        | (go_at_call 74; refine (hmx _).mono ?_; rintro e w4 ⟨rfl, hb4⟩; have hb34 := hbr.trans ((keep_trans (un_drew hb3) hb4).mono hbr.size))
        | (go_at_call 72; refine (hky _ hb34).mono ?_; rintro e w5 ⟨rfl, hb5⟩; have hA5 := ((HA.out.below (un_drew hb3)).below hb4).below hb5; obtain ⟨y0, y1, y2, y3, r0, r1, r2, r3⟩ := hA5.all4 lA)
        | fail)
      all_goals
        go_wp2
        have hA6 := hA5.four lA SN lN
        have bF : But w.heap.size w5 _ := (But.refl w.heap.size w5).four (.int .u32 (el SN 0)) (.int .u32 (el SN 1)) (.int .u32 (el SN 2)) (.int .u32 (el SN 3))
        have hb35 := keep_trans hb34 hb5
        refine ⟨⟨k1, by have := HK1.out; omega, vint (by have := HK2.out; omega), ?_, ((((HH2.out.below (un_drew hb3)).below hb4).below hb5).but bF (by omega)), hb35.trans (bF.below (Nat.le_refl _) hb35.size)⟩, by have := HK2.out; have := HK1.out; simp [intOf]; omega⟩
        rw [HN.out]
        exact hA6
    · have hge : ¬ ((k1 : Int) < (n : Int)) := by omega
      have hkn : k1 = n := by omega
      have hsp : thN n ks n s = keyAt ks n (rowsL (eachL boxT (thN n ks k s))) := by
        have : thN n ks (k + 1) s = keyAt ks (k + 1) (rowsL (eachL boxT (thN n ks k s))) := by
          show stepT n ks (k + 1) (thN n ks k s) = _; unfold stepT; rw [if_neg hlt]
        rw [← hk1, hkn] at this
        exact this
      have hky := fun y (hb : Below w.heap.size w y) => HKY.out y n _ (Nat.le_refl _) br hb
      rw [← hsp] at hky
      have lN : (sw (thN n ks n s)).length = 4 := rfl
      rw [arr4 .u32 (sw (thN n ks n s)) rfl] at hky
      generalize hN : sw (thN n ks n s) = SN at *
      have HN := hide hN
      rw [← hk1]
      clear hsp hN hk1 hA h2 hkn
      generalize sw (rowsL (eachL boxT (thN n ks k s))) = SR at *
      generalize sw (thN n ks k s) = SK at *
      go_wp2
      go_region_with (first
        | (go_at_call 73; refine hmv1.mono ?_; rintro e w3 ⟨rfl, hb3⟩; have hb34 := hbr.trans ((un_drew hb3).mono hbr.size); have hcr3 := HCR.out w3 hb34)
        | (go_at_call 72; refine (hky _ hb34).mono ?_; rintro e w5 ⟨rfl, hb5⟩; have hA5 := (HH2.out.below (un_drew hb3)).below hb5; obtain ⟨y0, y1, y2, y3, r0, r1, r2, r3⟩ := hA5.all4 (zA_len 4))
        | fail)
      all_goals
        go_wp2
        have hA6 := hA5.four (zA_len 4) SN lN
        have bF : But (w.heap.size + 1) w5 _ := (But.refl (w.heap.size + 1) w5).four (.int .u32 (el SN 0)) (.int .u32 (el SN 1)) (.int .u32 (el SN 2)) (.int .u32 (el SN 3))
        have hb35 := keep_trans hb34 hb5
        refine bodyPost_ret (v := .agg (arr .u32 SN)) ?_ rfl ⟨by rw [HN.out], hb35.trans (bF.below (by omega) hb35.size)⟩
        exact results_cell_row Try.results60 _ _ (w.heap.size + 1) _ _ _ (.array 4 69) (by rfl) hA6 (by kernel_rfl) rfl (by rw [arr_size, lN]; kernel_rfl)
end Go.Proofs.Ytjeofkemfpdieaa

/- The code's backward, back. -/
namespace Go.Proofs.Ytjeofkemfpdieaa
open Go.RowKit
set_option linter.unusedVariables false
set_option linter.unusedSimpArgs false

/-- a decipher's cells -/
def dl (g : Nat) (T : List Nat) : List Value := .pointer (some ⟨g, 0, none⟩) :: vals .u8 T
def DLv (g : Nat) : Array Value := (dl g unT).toArray
theorem Cph.boxes {w : World} {g n : Nat} {ws : List Nat} (h : Cph w g n ws boxT) : w.rangeAt g 61 (vals .u8 boxT) := fun j v hv => by
  have hj : j < 256 := by have := (List.getElem?_eq_some_iff.1 hv).1; rw [vals_length, boxT_len] at this; exact this
  rw [h.tab j hj, ← hv, vals_get _ _ _ (by rw [boxT_len]; exact hj)]
theorem unT_under2 : Under 256 unT := fun x hx => by
  obtain ⟨i, hi, rfl⟩ := List.getElem_of_mem hx
  rw [unT_len] at hi
  have := un_lt (c := i) hi
  rwa [el_at (by rw [unT_len]; exact hi)] at this
/-- what forward tells -/
def FwdE (key : List Nat) (k : Nat) (kv : Value) : Prop := ∀ w, Row .u8 256 w kv key → Calls Try.prog 59 #[kv] w fun e w' => ∃ g ws, e = .returned (.pointer (some ⟨g, 0, none⟩)) ∧ Cph w' g (k + 6) ws boxT ∧ Kws (keysL key) ws ∧ w.heap.size ≤ g ∧ Below w.heap.size w w'
/-- where the loop stands -/
def CbL (w : World) (ks s : List Nat) (n : Nat) (vr : Value) (wr : World) : Prop := ∃ (k : Nat) (S : List Nat), k + 1 ≤ n ∧ vr = .int .i64 (k : Int) ∧ B16 S ∧ bkN n ks k S = bkN n ks n s ∧ Lies .u32 81 wr w.heap.size (sw S) ∧ Lies .u32 81 wr (w.heap.size + 1) (zA 4) ∧ Below w.heap.size w wr
end Go.Proofs.Ytjeofkemfpdieaa

/- The code's fit; Block at a key of another length; awake. -/
namespace Go.Proofs.Ytjeofkemfpdieaa
open Go.RowKit
set_option linter.unusedVariables false
set_option linter.unusedSimpArgs false

/-- how many bytes a key may have -/
def Sz3 (n : Nat) : Prop := n = 16 ∨ n = 24 ∨ n = 32
set_option maxHeartbeats 2000000 in
set_option maxRecDepth 100000 in
theorem fit_key (key : List Nat) (kv bv : Value) (w : World) (rk : Row .u8 256 w kv key) (hk : ¬ Sz3 key.length) :
    Calls Try.prog 58 #[kv, bv] w fun e w' => e = .returned (.int .i64 10) ∧ w' = w := by
  obtain ⟨ka, kc, rfl, lc1, lc2, _⟩ := rk.opens rfl
  generalize key.length = L at *
  have h1 : ¬ ((L : Int) = 16) := fun h => hk (.inl (by omega))
  have h2 : ¬ ((L : Int) = 24) := fun h => hk (.inr (.inl (by omega)))
  have h3 : ¬ ((L : Int) = 32) := fun h => hk (.inr (.inr (by omega)))
  clear hk
  go_enter Try.func58, Try.ntmps58
  go_wp2
  go_ret
  exact ⟨rfl, rfl⟩
set_option maxHeartbeats 2000000 in
set_option maxRecDepth 100000 in
theorem fit_size (key b : List Nat) (kv bv : Value) (w : World) (rk : Row .u8 256 w kv key) (rb : Row .u8 256 w bv b) (hk : Sz3 key.length) (hb : b.length ≠ 16) :
    Calls Try.prog 58 #[kv, bv] w fun e w' => e = .returned (.int .i64 14) ∧ w' = w := by
  obtain ⟨ka, kc, rfl, lc1, lc2, _⟩ := rk.opens rfl
  obtain ⟨ba, bc, rfl, l1, l2, _⟩ := rb.opens rfl
  generalize key.length = L at *
  generalize b.length = M at *
  have h1 : ¬ ((M : Int) = 16) := by omega
  rcases hk with h | h | h <;> subst h
  · go_enter Try.func58, Try.ntmps58
    go_wp2
    go_ret
    exact ⟨rfl, rfl⟩
  · go_enter Try.func58, Try.ntmps58
    go_wp2
    go_ret
    exact ⟨rfl, rfl⟩
  · go_enter Try.func58, Try.ntmps58
    go_wp2
    go_ret
    exact ⟨rfl, rfl⟩
set_option maxHeartbeats 2000000 in
set_option maxRecDepth 100000 in
theorem fit_ok (key b : List Nat) (kv bv : Value) (w : World) (rk : Row .u8 256 w kv key) (rb : Row .u8 256 w bv b) (hk : Sz3 key.length) (hb : b.length = 16) :
    Calls Try.prog 58 #[kv, bv] w fun e w' => e = .returned (.int .i64 0) ∧ w' = w := by
  obtain ⟨ka, kc, rfl, lc1, lc2, _⟩ := rk.opens rfl
  obtain ⟨ba, bc, rfl, l1, l2, _⟩ := rb.opens hb
  generalize key.length = L at *
  rcases hk with h | h | h <;> subst h
  · go_enter Try.func58, Try.ntmps58
    go_wp2
    go_ret
    exact ⟨rfl, rfl⟩
  · go_enter Try.func58, Try.ntmps58
    go_wp2
    go_ret
    exact ⟨rfl, rfl⟩
  · go_enter Try.func58, Try.ntmps58
    go_wp2
    go_ret
    exact ⟨rfl, rfl⟩
set_option maxHeartbeats 2000000 in
set_option maxRecDepth 100000 in
theorem cblk_key (key : List Nat) (kv bv : Value) (w : World) (rk : Row .u8 256 w kv key) (hk : ¬ Sz3 key.length) :
    Calls Try.prog 54 #[kv, bv] w fun e w' => e = .returned (.tuple #[.slice none 0 0, .int .i64 10]) ∧ Below w.heap.size w w' := by
  have hf := fit_key key kv bv w rk hk
  go_enter Try.func54, Try.ntmps54
  go_wp2_with (first | (go_at_call 58; refine hf.mono ?_; rintro e w1 ⟨rfl, hy⟩; obtain rfl := hy.symm) | fail)
  go_ret2
  exact ⟨rfl, Below.refl _ _⟩
theorem lies_row {t : TypeId} {w : World} {g n : Nat} {l : List Nat} (h : Lies .u8 t w g l) (hl : l.length = n) (hu : Under 256 l) (hm : n ≤ maxLen) : Row .u8 256 w (.slice (some ⟨g, 0, none⟩) n n) l :=
  ⟨_, _, by rw [hl], by omega, hm, fun _ => ⟨g, 0, rfl, fun i hi => by rw [Nat.zero_add]; exact h.cell hi⟩, hu⟩
theorem zA_under (n : Nat) : Under 256 (zA n) := Under.replicate 256 n (by decide)
theorem mk_15 (y : World) : (Instr.makeSlice 22 (.int .i64 15) (.int .i64 15)).run Try.prog y = .ok (.slice (some ⟨y.heap.size, 0, none⟩) 15 15) (y.alloc (.cells (arr .u8 (zA 15)) 5)) := by
  obtain ⟨i0, hi, hz0, hz1, hz2⟩ := info_parts Try.info5
  have := run_makeSlice (P := Try.prog) y 22 5 i0 (.int .u8 0) Try.underlying22 hi hz0 .i64 .i64 15 15 (by decide) (by decide) (by rw [hz1]; decide) (by rw [hz2]; decide) (by decide)
  rw [hz1, show madeCells (Value.int .u8 0).cells (Int.toNat 15 * 1) = arr .u8 (zA 15) by kernel_rfl] at this
  exact this
theorem mk_16 (y : World) : (Instr.makeSlice 22 (.int .i64 16) (.int .i64 16)).run Try.prog y = .ok (.slice (some ⟨y.heap.size, 0, none⟩) 16 16) (y.alloc (.cells (arr .u8 (zA 16)) 5)) := by
  obtain ⟨i0, hi, hz0, hz1, hz2⟩ := info_parts Try.info5
  have := run_makeSlice (P := Try.prog) y 22 5 i0 (.int .u8 0) Try.underlying22 hi hz0 .i64 .i64 16 16 (by decide) (by decide) (by rw [hz1]; decide) (by rw [hz2]; decide) (by decide)
  rw [hz1, show madeCells (Value.int .u8 0).cells (Int.toNat 16 * 1) = arr .u8 (zA 16) by kernel_rfl] at this
  exact this
theorem zeros_key {y : World} {v : Value} (h : Row .u8 256 y v (zA 15)) (bv : Value) :
    Calls Try.prog 54 #[v, bv] y fun e w' => e = .returned (.tuple #[.slice none 0 0, .int .i64 10]) ∧ Below y.heap.size y w' := cblk_key _ v bv y h (by unfold Sz3; rw [zA_len]; decide)
end Go.Proofs.Ytjeofkemfpdieaa

/- The code's Block, Back. -/
namespace Go.Proofs.Ytjeofkemfpdieaa
open Go.RowKit
set_option linter.unusedVariables false
set_option linter.unusedSimpArgs false

theorem Sz3.words {key : List Nat} (h : Sz3 key.length) : ∃ k, (k = 4 ∨ k = 6 ∨ k = 8) ∧ key.length = 4 * k ∧ key.length / 4 = k := by
  rcases h with h | h | h
  · exact ⟨4, .inl rfl, h, by rw [h]⟩
  · exact ⟨6, .inr (.inl rfl), h, by rw [h]⟩
  · exact ⟨8, .inr (.inr rfl), h, by rw [h]⟩
/-- a block behind the cipher, and back -/
def thA' (key b : List Nat) : List Nat := thN (key.length / 4 + 6) (keysL key) (key.length / 4 + 6) b
def bkA' (key b : List Nat) : List Nat := bkN (key.length / 4 + 6) (keysL key) (key.length / 4 + 6) b
theorem thA'_b {key b : List Nat} (hk : Under 256 key) (hb : B16 b) : B16 (thA' key b) := thN_b (keysL_under hk) hb _
theorem bkA'_b {key b : List Nat} (hk : Under 256 key) (hb : B16 b) : B16 (bkA' key b) := bkN_b (keysL_under hk) _ hb
theorem bk_th' {key b : List Nat} (hk : Under 256 key) (hb : B16 b) : bkA' key (thA' key b) = b := bk_th (keysL_under hk) hb _
theorem th_bk' {key b : List Nat} (hk : Under 256 key) (hb : B16 b) : thA' key (bkA' key b) = b := th_bk (keysL_under hk) _ hb
/-- a cipher that is ready, and what it does -/
def Ready (w : World) (v : Value) (key : List Nat) : Prop := ∃ g k ws, v = .pointer (some ⟨g, 0, none⟩) ∧ (k = 4 ∨ k = 6 ∨ k = 8) ∧ key.length = 4 * k ∧ Under 256 key ∧ Cph w g (k + 6) ws boxT ∧ Kws (keysL key) ws
theorem Ready.below {w w' : World} {v : Value} {key : List Nat} (h : Ready w v key) (hb : Below w.heap.size w w') : Ready w' v key := by
  obtain ⟨g, k, ws, h1, h2, h3, h4, h5, h6⟩ := h
  exact ⟨g, k, ws, h1, h2, h3, h4, h5.below hb, h6⟩
theorem Ready.there {w : World} {v : Value} {key s : List Nat} (h : Ready w v key) (hs : B16 s) :
    Calls Try.prog 60 #[v, .agg (arr .u32 (sw s))] w fun e w' => e = .returned (.agg (arr .u32 (sw (thA' key s)))) ∧ Below w.heap.size w w' := by
  obtain ⟨g, k, ws, rfl, h2, h3, h4, h5, h6⟩ := h
  have := cth_any g (k + 6) ws (keysL key) s w h5 h6 (keysL_under h4) (keysL_len h3) (by omega) (by omega) hs
  unfold thA'
  rw [show key.length / 4 = k by omega]
  exact this
theorem fwd_ready {key : List Nat} {kv : Value} {w : World} (rk : Row .u8 256 w kv key) (hk : Sz3 key.length) :
    Calls Try.prog 59 #[kv] w fun e w' => ∃ v, e = .returned v ∧ Ready w' v key ∧ Below w.heap.size w w' := by
  obtain ⟨k, hk4, hl, _⟩ := hk.words
  refine (fwd_any k key kv w hk4 hl rk).mono ?_
  rintro e w' ⟨g, ws, rfl, h1, h2, h3, h4⟩
  exact ⟨_, rfl, ⟨g, k, ws, rfl, hk4, hl, rk.under, h1, h2⟩, h4⟩
set_option maxHeartbeats 4000000 in
set_option maxRecDepth 100000 in
theorem cblk_ok (key b : List Nat) (kv bv : Value) (w : World) (rk : Row .u8 256 w kv key) (rb : Row .u8 256 w bv b) (hk : Sz3 key.length) (hb : b.length = 16) :
    Calls Try.prog 54 #[kv, bv] w fun e w' => ∃ v, e = .returned (.tuple #[v, .int .i64 0]) ∧ Row .u8 256 w' v (thA' key b) ∧ New w.heap.size v ∧ Below w.heap.size w w' := by
  have hf := fit_ok key b kv bv w rk rb hk hb
  have hB : B16 b := ⟨hb, rb.under⟩
  have hT := thA'_b rk.under hB
  have hfw := fwd_ready rk hk
  have hrd := fun y (r : Row .u8 256 y bv b) => read_any bv b y hb r
  have hon := fun y => onto_nil (thA' key b) y hT
  go_enter Try.func54, Try.ntmps54
  go_wp2_with (first
    | (go_at_call 58; refine hf.mono ?_; rintro e yy ⟨rfl, hy⟩; obtain rfl := hy.symm)
    | (go_at_call 59; refine hfw.mono ?_; rintro e w1 ⟨v1, rfl, r1, hb1⟩)
    | (go_at_call 61; refine (hrd _ (rb.below hb1)).mono ?_; rintro e w2 ⟨rfl, hb2⟩)
    | (go_at_call 60; refine ((r1.below hb2).there hB).mono ?_; rintro e w3 ⟨rfl, hb3⟩)
    | (go_at_call 62; refine (hon _).mono ?_; rintro e w4 ⟨v4, rfl, o4, hb4⟩)
    | fail)
  go_ret2
  have hb14 := keep_trans (keep_trans hb1 hb2) hb3
  exact ⟨_, rfl, o4.row, (o4.mono hb14.size).new, keep_trans hb14 hb4⟩
set_option maxHeartbeats 2000000 in
set_option maxRecDepth 100000 in
theorem cblk_size (key b : List Nat) (kv bv : Value) (w : World) (rk : Row .u8 256 w kv key) (rb : Row .u8 256 w bv b) (hk : Sz3 key.length) (hb : b.length ≠ 16) :
    Calls Try.prog 54 #[kv, bv] w fun e w' => e = .returned (.tuple #[.slice none 0 0, .int .i64 14]) ∧ Below w.heap.size w w' := by
  have hf := fit_size key b kv bv w rk rb hk hb
  go_enter Try.func54, Try.ntmps54
  go_wp2_with (first | (go_at_call 58; refine hf.mono ?_; rintro e w1 ⟨rfl, hy⟩; obtain rfl := hy.symm) | fail)
  go_ret2
  exact ⟨rfl, Below.refl _ _⟩
end Go.Proofs.Ytjeofkemfpdieaa

/- The stream's blocks: behind the cipher, numbered, handed out by an iterator that does not end. -/
namespace Go.Proofs.Ytjeofkemfpdieaa
open Go.RowKit Go.Shelf
set_option linter.unusedVariables false
set_option linter.unusedSimpArgs false
attribute [local go_sem] Oper.semAt_some

/-- a key's cipher, as the code calls it -/
def Cip (T : List Nat → List Nat) (kv : Value) (w : World) : Prop :=
  ∀ (y : World) (b : List Nat) (bv : Value), Below w.heap.size w y → Row .u8 256 y bv b → B16 b → Calls Try.prog 44 #[kv, bv] y fun e y' => ∃ v, e = .returned v ∧ Row .u8 256 y' v (T b) ∧ New y.heap.size v ∧ Below y.heap.size y y'
set_option maxHeartbeats 2000000 in
set_option maxRecDepth 100000 in
theorem cip_of (key : List Nat) (kv : Value) (w : World) (rk : Row .u8 256 w kv key) (hk : Sz3 key.length) : Cip (thA' key) kv w := by
  intro y b bv hy rb hb
  have h := cblk_ok key b kv bv y (rk.below hy) rb hk hb.1
  generalize thA' key b = X at *
  clear hk hb rb rk hy
  go_enter Try.func44, Try.ntmps44
  go_wp2_with (first
    | (go_at_call 54; refine h.mono ?_; rintro e w1 ⟨v1, rfl, r1, n1, hb1⟩)
    | fail)
  go_ret
  exact ⟨_, rfl, r1, n1, hb1⟩
theorem leS_4Q (n : Nat) : leS n 4 = leL n 4 := by unfold leS; rw [if_neg (by decide)]; rfl
theorem row_tidyQ {k : IntKind} {m : Nat} {w : World} {v : Value} {l : List Nat} (h : Row k m w v l) (hl : 0 < l.length) : Tidy v := by
  obtain ⟨a, c, rfl, _, _, h3, _⟩ := h
  obtain ⟨b, off, rfl, _⟩ := h3 hl
  exact fun n c he => by simp at he
set_option maxHeartbeats 2000000 in
set_option maxRecDepth 100000 in
theorem numb_anyQ (T : List Nat → List Nat) (nonce : List Nat) (kv nv : Value) (i : Nat) (w y : World) (hC : Cip T kv w) (hy : Below w.heap.size w y) (rn : Row .u8 256 y nv nonce) (h12 : nonce.length = 12) (hi : i < 4294967296) :
    Calls Try.prog 46 #[kv, nv, .int .u32 (i : Int)] y fun e y' => ∃ v, e = .returned v ∧ Row .u8 256 y' v (T (cntB nonce i)) ∧ New y.heap.size v ∧ Below y.heap.size y y' := by
  have hbe := be_any i 4 y (by omega) (by decide) (by decide)
  rw [leS_4Q] at hbe
  have tn := row_tidyQ rn (by omega)
  have hB := cntB_b h12 rn.under i
  have hl4 : ((leL i 4).reverse).length = 4 := by rw [List.length_reverse, leL_length]
  have hfe : [nonce, (leL i 4).reverse].flatten = cntB nonce i := by unfold cntB; simp
  have hj := fun z lv (r : Rows2 z lv [nonce, (leL i 4).reverse]) => join_any lv _ z r (by rw [hfe, hB.1]; decide)
  rw [hfe] at hj
  obtain ⟨na, nc, rfl, _⟩ := rn.opens h12
  have s_i : IntKind.u64.wrap (i : Int) = (i : Int) := by rw [IntKind.wrap_u64]; omega
  have hb := fun z bv (hz : Below w.heap.size w z) (rb : Row .u8 256 z bv (cntB nonce i)) => hC z _ bv hz rb hB
  generalize cntB nonce i = cb at *
  generalize (leL i 4).reverse = li at *
  clear hfe hC hi h12
  go_enter Try.func46, Try.ntmps46
  go_wp2_with (first
    | (go_at_call 38; refine hbe.mono ?_; rintro e w1 ⟨v1, rfl, o1, hb1⟩; obtain ⟨a1, c1, rfl, _⟩ := o1.row.opens hl4; have hr2 := rows_lit2G (rn.below hb1) tn o1.row (own_tidyG o1))
    | (go_at_call 28; refine (hj _ _ hr2).mono ?_; rintro e w2 ⟨v2, rfl, o2, hb2⟩; have hb12 := keep_trans (keep_trans hb1 (keep_alloc _ _)) hb2)
    | (go_at_call 44; refine (hb _ _ (keep_trans hy hb12) o2.row).mono ?_; rintro e w3 ⟨v3, rfl, r3, n3, hb3⟩)
    | fail)
  go_ret
  exact ⟨_, rfl, r3, n3.mono hb12.size, keep_trans hb12 hb3⟩
set_option maxHeartbeats 2000000 in
set_option maxRecDepth 100000 in
theorem stream_make (a b : Option Addr) (n c m d : Nat) (w : World) :
    Calls Try.prog 41 #[.slice a n c, .slice b m d] w fun e w' => e = .returned (.func (.func 53) #[] #[.pointer (some ⟨w.heap.size, 0, none⟩), .pointer (some ⟨w.heap.size + 1, 0, none⟩)]) ∧ w' = (w.alloc (.cells #[.slice a n c] 22)).alloc (.cells #[.slice b m d] 22) := by
  go_enter Try.func41, Try.ntmps41
  go_wp2
  go_ret
  exact ⟨rfl, rfl⟩
set_option maxRecDepth 100000 in
set_option maxHeartbeats 4000000 in
theorem stream1_own (m : Nat) (hm : 2 ≤ m) (Bk Bn : Nat) (T : List Nat → List Nat) (nonce : List Nat) (kv : Value) (na : Option Addr) (nc N : Nat) (hN : N ≤ 100000000) (w w0 : World) (hC : Cip T kv w) (h12 : nonce.length = 12) (ka : Option Addr) (kn kc : Nat) (hkv : kv = .slice ka kn kc) (V : World → Prop)
    (hV : ∀ W, V W → W.cell? ⟨Bk, 0, none⟩ = some kv ∧ W.cell? ⟨Bn, 0, none⟩ = some (.slice na 12 nc) ∧ Below w.heap.size w W ∧ Row .u8 256 W (.slice na 12 nc) nonce) :
    OwnStop m Try.prog 53 #[.pointer (some ⟨Bk, 0, none⟩), .pointer (some ⟨Bn, 0, none⟩)] (fun k v W => Row .u8 256 W v (T (cntB nonce (k + 2)))) N V w0 := by
  subst hkv
  intro l J Jx W hW hlW hJ hJV hY h0
  show CallsIn Fence.wide m Try.prog 53 #[.func (.yield l) #[] #[], .pointer (some ⟨Bk, 0, none⟩), .pointer (some ⟨Bn, 0, none⟩)] W _
  have h1m : 1 ≤ m := by omega
  refine callsIn_of_wp Try.func53 rfl trivial ?_ rfl
  simp only [Try.ntmps53, List.size_toArray, List.length_cons, List.length_nil, Nat.reduceAdd, Nat.reduceSub, Array.replicate_succ, Array.replicate_zero, List.push_toArray, List.append_toArray, List.nil_append, List.cons_append]
  gi_wp2
  gi_loopw [4] (fun vi wr => ∃ k : Nat, vi = .int .u32 ((k + 2 : Nat) : Int) ∧ J k wr ∧ W.heap.size ≤ wr.heap.size) (fun vi _ => N + 2 - (intOf vi).toNat)
  case atStart => exact ⟨0, rfl, h0, Nat.le_refl _⟩
  case round =>
    obtain ⟨k, rfl, hJs, hsz⟩ := hrel
    obtain ⟨hv1, hkN⟩ := hJV _ _ hJs
    obtain ⟨ck, cn, hbl, rn⟩ := hV _ hv1
    obtain ⟨P, hP⟩ : ∃ x : Nat, x = k + 2 := ⟨_, rfl⟩
    obtain ⟨Q, hQ⟩ : ∃ x : Nat, x = k + 3 := ⟨_, rfl⟩
    have e_Q : (P : Int) + 1 = (Q : Int) := by omega
    have s_Q : IntKind.u32.wrap (Q : Int) = (Q : Int) := by rw [IntKind.wrap_u32]; omega
    have hnb := numb_anyQ T nonce _ _ P w wr hC hbl rn h12 (by omega)
    rw [← hP]
    have hyy : ∀ v y, Below wr.heap.size wr y → Row .u8 256 y v (T (cntB nonce P)) → YieldAt Fence.wide (m - 1) Try.prog l #[v] y fun e W' => (e = .returned (.bool true) ∧ J (k + 1) W' ∧ y.heap.size ≤ W'.heap.size) ∨ (e = .returned (.bool false) ∧ Jx W') := fun v y hb hr =>
      hY k v y (hJ _ wr y none hJs (⟨hb.os, hb.tape, hb.output, hb.size, fun k hk _ => hb.block k hk⟩) (fun r e => by cases e)) (by rw [← hP]; exact hr) (by have := hb.size; omega)
    have HX := hide (And.intro hP (And.intro hQ (And.intro hkN hN)))
    clear hP hQ hkN hN rn hbl hC
    gi_wp2_with (first
      | (refine ⟨trivial, ?_⟩; gi_at_call 46; refine (callsIn_wide.2 hnb).mono ?_; rintro e w1 ⟨v1, rfl, r1, n1, hb1⟩; obtain ⟨fn, tmps, assign, body, hy, hR⟩ := hyy v1 w1 hb1 r1)
      | (refine hR.mono ?_; rintro e W3 (⟨rfl, hJ3, hk3⟩ | ⟨rfl, hJx3⟩))
      | fail)
    · go_roundw
      case rel => exact ⟨k + 1, vint (by have := HX.out; omega), hJ3, by have := hb1.size; omega⟩
      case measure => have := HX.out; simp [intOf]; omega
    · refine bodyPost_ret (results_none rfl _ _ _) rfl ?_
      exact ⟨⟨_, rfl⟩, hJx3⟩
end Go.Proofs.Ytjeofkemfpdieaa

/- slices.Grow of nothing: room for so many bytes. -/
namespace Go.Proofs.Ytjeofkemfpdieaa
open Go.RowKit Go.Lib
set_option linter.unusedVariables false
set_option linter.unusedSimpArgs false

set_option maxHeartbeats 4000000 in
set_option maxRecDepth 100000 in
theorem grow_any (n : Nat) (w : World) (hn : n ≤ 100000000) :
    Calls Try.prog 40 #[.slice none 0 0, .int .i64 (n : Int)] w fun e w' => ∃ v, e = .returned v ∧ Own 5 .u8 256 w' w.heap.size v [] ∧ Below w.heap.size w w' := by
  have h1 : ¬ ((n : Int) < 0) := by omega
  have s_n : IntKind.i64.wrap (n : Int) = (n : Int) := by rw [IntKind.wrap_i64]; omega
  by_cases h0 : n = 0
  · subst h0
    go_enter Try.func40, Try.ntmps40
    go_wp2
    go_ret
    exact ⟨_, rfl, ⟨World.ownsRow_nil _ _ _ _, fun x hx => by simp at hx⟩, Below.refl _ _⟩
  · have h2 : (0 : Int) < (n : Int) := by omega
    obtain ⟨i0, hi0, hz0, hz1, hz2⟩ := info_byte
    have hold : (Builtin.firstCells i0.size 0 (.slice none 0 0)).run Try.prog w.drew = .ok #[] w.drew := run_firstCells_none w.drew i0.size 0 0 0
    have h := Lib.run_append_grow_zeros w 22 3 22 5 i0 (.int .u8 0) .i64 .i64 Try.underlying22 Try.underlying3 hi0 hz0 none 0 0 [] hold n (by omega) (by omega) (by omega) (by omega) (by rw [hz2]; omega) (by exact growslice_fits (show 0 < 0 + n by omega) (by rw [hz2]; omega))
    rw [Nat.zero_add] at h
    have hGn : n ≤ grownCap w n 0 5 := grownCap_ge w _ _ _
    have hG63 : grownCap w n 0 5 ≤ maxLen := grownCap_le_maxLen w n 0 5 (by unfold maxLen; omega)
    have hG64 : grownCap w n 0 5 ≤ 9223372036854775807 := by unfold maxLen at hG63; omega
    generalize grownCap w n 0 5 = G at *
    have HH := hide (And.intro hGn hG63)
    clear hold
    go_enter Try.func40, Try.ntmps40
    go_wp2_with (at_builtin; refine Lib.wpList_append_run _ rfl _ _ _ _ rfl _ _ rfl rfl _ _ h ?_)
    go_ret
    refine ⟨_, rfl, ⟨⟨rfl, .inr ⟨_, _, _, rfl, Nat.le_refl _, heap_alloc_new _ _, Nat.zero_le _, HH.out.2, ?_, by simp; rfl⟩⟩, fun x hx => by simp at hx⟩, ?_⟩
    · simp [size_zeroCells]
      have := HH.out
      omega
    · exact keep_trans ((Below.refl _ _).drew) (keep_alloc _ _)
end Go.Proofs.Ytjeofkemfpdieaa
