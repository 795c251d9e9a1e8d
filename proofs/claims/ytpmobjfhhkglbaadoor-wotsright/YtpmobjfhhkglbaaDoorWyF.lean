/- Keys of chains, the program's own: Public where it answers. -/
import Derived.Test.YtpmobjfhhkglbaaDoorWyV
namespace Go.Proofs.YtpmobjfhhkglbaaDoor
open Go.RowKit
set_option linter.unusedVariables false
set_option linter.unusedSimpArgs false

theorem but_keepW {H : Nat} {x y z : World} (h : But H x y) (k : Below y.heap.size y z) : But H x z := h.trans (But.of_below k)
/-- up to place i, texts lie in block H of N places -/
def UpW (wr : World) (H N i : Nat) (f : Nat → List Nat) : Prop := ∃ us : Array Value, us.size = N ∧ wr.heap[H]? = some (.cells us 26 (0, 0)) ∧ ∀ j, j < i → j < N → ∃ u, us[j]? = some u ∧ Row .u8 256 wr u (f j) ∧ Tidy u ∧ ∀ q, u.ownBlock = some q → q ≠ H
theorem UpW.lt {wr : World} {H N i : Nat} {f : Nat → List Nat} (h : UpW wr H N i f) : H < wr.heap.size := by
  obtain ⟨us, _, h1, _⟩ := h
  exact (Array.getElem?_eq_some_iff.1 h1).1
theorem UpW.below {wr w' : World} {H N i : Nat} {f : Nat → List Nat} (h : UpW wr H N i f) (hb : Below wr.heap.size wr w') : UpW w' H N i f := by
  have hl := h.lt
  obtain ⟨us, h1, h2, h3⟩ := h
  refine ⟨us, h1, (hb.block _ hl).trans h2, fun j k1 k2 => ?_⟩
  obtain ⟨u, e1, e2, e3, e4⟩ := h3 j k1 k2
  exact ⟨u, e1, e2.below hb, e3, e4⟩
theorem UpW.frozen {wr : World} {H N i : Nat} {f : Nat → List Nat} (h : UpW wr H N i f) (j : Nat) : wr.frozen? ⟨H, j, none⟩ = false := by
  obtain ⟨us, _, h1, _⟩ := h
  simp [World.frozen?, h1]
theorem UpW.any {wr : World} {H N i : Nat} {f : Nat → List Nat} (h : UpW wr H N i f) {j : Nat} (hj : j < N) : (wr.cell? ⟨H, j, none⟩).isSome = true := by
  obtain ⟨us, h0, h1, _⟩ := h
  rw [cell_of_row wr H j _ _ (0, 0) h1]
  simp [h0, hj]
theorem UpW.store {wr : World} {H N i : Nat} {f : Nat → List Nat} {v : Value} (h : UpW wr H N i f) (hi : i < N) (hv : Row .u8 256 wr v (f i)) (tv : Tidy v) (hn : ∀ q, v.ownBlock = some q → q ≠ H) : UpW (wr.setCell ⟨H, i, none⟩ v) H N (i + 1) f := by
  obtain ⟨us, h0, h1, h2⟩ := h
  have hB : But H wr (wr.setCell ⟨H, i, none⟩ v) := (But.refl H wr).setCell i v
  have rw' : ∀ {u : Value} {l : List Nat}, Row .u8 256 wr u l → (∀ q, u.ownBlock = some q → q ≠ H) → Row .u8 256 (wr.setCell ⟨H, i, none⟩ v) u l := fun {u l} hu hq => by
    obtain ⟨a, cap, rfl, k1, k2, k3, k4⟩ := hu
    refine ⟨a, cap, rfl, k1, k2, fun hl => ?_, k4⟩
    obtain ⟨b, off, rfl, hc⟩ := k3 hl
    exact ⟨b, off, rfl, fun j hj => But.cell (hc j hj) hB (hq b (by simp [Value.ownBlock]))⟩
  refine ⟨us.setIfInBounds i v, by simp [h0], ?_, fun j k1 k2 => ?_⟩
  · rw [setCell_eq_setRow wr H i _ 26 (0, 0) _ h1]
    exact setRow_heap wr H _ _ 26 _ h1
  · by_cases e : j = i
    · subst e
      exact ⟨v, by rw [Array.getElem?_setIfInBounds_self_of_lt (by omega)], rw' hv hn, tv, hn⟩
    · obtain ⟨u, e1, e2, e3, e4⟩ := h2 j (by omega) k2
      exact ⟨u, by rw [Array.getElem?_setIfInBounds_ne (fun x => e x.symm)]; exact e1, rw' e2 e4, e3, e4⟩
theorem UpW.made {w : World} {base g n : Nat} {xs : List Value} (f : Nat → List Nat) (h : w.ownsRow base 26 1 (.slice (some ⟨g, 0, none⟩) n n) n xs) : UpW w g n 0 f := by
  obtain ⟨_, ⟨h1, _⟩ | ⟨g', cap, cur, h1, _, h3, _, _, h4, h5⟩⟩ := h
  · cases h1
  · simp only [Value.slice.injEq, Option.some.injEq, Addr.mk.injEq] at h1
    obtain ⟨⟨rfl, _⟩, rfl⟩ : (g = g' ∧ True) ∧ n = cap := ⟨⟨h1.1.1, trivial⟩, h1.2.2⟩
    exact ⟨cur, by omega, h3, fun j k1 k2 => by omega⟩
theorem UpW.rows {wr : World} {H N : Nat} {f : Nat → List Nat} (h : UpW wr H N N f) (hN : N ≤ 100000) : Rows2 wr (.slice (some ⟨H, 0, none⟩) N N) ((List.range N).map f) := by
  obtain ⟨us, h0, h1, h2⟩ := h
  have hl : ((List.range N).map f).length = N := by simp
  refine ⟨some ⟨H, 0, none⟩, N, by rw [hl], by rw [hl]; exact Nat.le_refl _, by unfold maxLen; omega, fun _ => ⟨H, 0, rfl, fun i hi => ?_⟩⟩
  rw [hl] at hi
  obtain ⟨u, e1, e2, e3, _⟩ := h2 i hi hi
  refine ⟨u, by rw [Nat.zero_add, cell_of_row wr H i _ _ (0, 0) h1]; exact e1, ?_, e3⟩
  have ht : tx ((List.range N).map f) i = f i := by simp [tx, hi]
  rw [ht]
  exact e2
theorem y_ix0W {ops : Array Oper} {S : World → Prop} {o : Oper} {a : Act} {x y : Operand} {t e : TypeId} {g n c i : Nat} (hw : Region.wanted o (yielded ops a.tmps) = true) (ho : o.op = .indexAddr t x y) (hx : a.eval x = .slice (some ⟨g, 0, none⟩) n c) (hy : a.eval y = .int .i64 (i : Int)) (hu : Tryd.prog.underlying t = some (.slice e)) (hs : (Tryd.prog.info? e).map (·.size) = some 1) (hi : i < n) : YieldsIf Tryd.prog ops S o (.pointer (some ⟨g, i, none⟩)) a := by
  have := y_indexG (ops := ops) (S := S) hw ho hx hy hu hs hi
  rw [Nat.zero_add, Nat.mul_one] at this
  exact this
/-- where the loop over the parts stands -/
def PuW (w2 : World) (H N : Nat) (f : Nat → List Nat) (vi : Value) (wr : World) : Prop := ∃ i : Nat, i ≤ N ∧ vi = .int .i64 (i : Int) ∧ UpW wr H N i f ∧ But H w2 wr
theorem PuW.next {w2 wr y : World} {H N i : Nat} {v : Value} {f : Nat → List Nat} (hU : UpW wr H N i f) (hb : But H w2 wr) (kb : Below wr.heap.size wr y) (hi : i < N) (hv : Row .u8 256 y v (f i)) (tv : Tidy v) (hn : ∀ q, v.ownBlock = some q → q ≠ H) :
    PuW w2 H N f (.int .i64 ((i + 1 : Nat) : Int)) (y.setCell ⟨H, i, none⟩ v) :=
  ⟨i + 1, hi, rfl, (hU.below kb).store hi hv tv hn, (hb.trans (But.of_below kb)).setCell _ _⟩
theorem PuW.start {w2 : World} {H N : Nat} (f : Nat → List Nat) (hU : UpW w2 H N 0 f) : PuW w2 H N f (.int .i64 0) w2 := ⟨0, Nat.zero_le _, rfl, hU, But.refl _ _⟩
section
variable {N : Nat} {H D A K : Int}
def pw8lt : List Lt := [(0, some 30, [11]), (0, some 31, [12]), (0, some 32, [9]), (0, some 33, [7]), (0, some 34, [12]), (0, some 35, [9]), (0, some 36, [7]), (0, some 37, [12]), (0, some 38, [1]), (480, some 39, [35, 36, 37, 38]), (540, some 40, [32, 33, 34, 39]), (2047, some 41, [30, 31]), (4095, none, [41, 40])]
theorem pw8reg : Reg (opsA (cRA (cBA (cLA (cRA (cRA (cLpA (cBA (cRA (cLA (cRA (cRA (cRA (cRA (Tryd.f4.body.getD .skip))))))))))))))) pw8lt := ⟨by kernel_rfl, by kernel_rfl⟩
set_option maxHeartbeats 8000000 in
set_option maxRecDepth 100000 in
theorem wpub_ok (sh : Bool) (pub a secret : List Nat) (pv sv : Value) (w : World) (hC : Csts w) (hT : Roots w) (hF : FitX (N : Int) H D A K) (ha : Pl a) (hp : Row .u8 256 w pv pub) (tp : Tidy pv) (hs : Row .u8 256 w sv secret) (ts : Tidy sv) (hpl : pub.length = N) (hsl : secret.length = N) :
    Calls Tryd.prog 4 #[slV (N : Int) H D A K sh, sv, pv, .agg (arr .u8 a)] w fun e w' => ∃ v, e = .returned v ∧ Row .u8 256 w' v (wpb (fun p x => sumW N sh pub p x) a N secret) ∧ New w.heap.size v ∧ Below w.heap.size w w' := by
  have hN := fitN hF
  obtain ⟨bx, La, k0⟩ := boxW (N := N) (H := H) (D := D) (A := A) (K := K) w sh (a := a)
  obtain ⟨sa, sc, rfl, _⟩ := hs.opens hsl
  have hsg := fun x (k : Below w.heap.size w x) => wsec_ok sh pub pv sa sc w x k hC hT hF hp tp hpl
  obtain ⟨pa, pc, rfl, _⟩ := hp.opens hpl
  obtain ⟨Fs, hFs⟩ : ∃ Fs : List Nat → List Nat → List Nat, Fs = fun p x => sumW N sh pub p x := ⟨_, rfl⟩
  have hFl : ∀ p x, (Fs p x).length = N := fun p x => by rw [hFs]; exact sumW_len hN.2 _ _ _ _
  rw [← hFs] at hsg ⊢
  obtain ⟨P9, hP9⟩ : ∃ P : Nat, P = 2 * N + 3 := ⟨_, rfl⟩
  have hct := fun (f : Value) y => wcnt_any (N := N) (H := H) (D := D) (A := A) (K := K) sh f y (by omega)
  rw [← hP9] at hct
  obtain ⟨f, hf⟩ : ∃ f : Nat → List Nat, f = fun i => wch Fs (putA a 4 i) 0 15 (wbg Fs a secret i) := ⟨_, rfl⟩
  have hfi : ∀ i, (fun i => wch Fs (putA a 4 i) 0 15 (wbg Fs a secret i)) i = f i := fun i => by rw [hf]
  dsimp only at hfi
  have hbl : ∀ i, (wbg Fs a secret i).length = N := fun i => hFl _ _
  have hfl : ∀ i, i < P9 → (f i).length = N := fun i hi => by rw [← hfi]; exact wch_len hFl _ _ (hbl i) _
  have hel : ((List.range P9).map f).flatten.length ≤ 50000 := by
    rw [flat_N_len (N := N) _ (fun p hp => by obtain ⟨i, hi, rfl⟩ := List.mem_map.1 hp; exact hfl i (by simpa using hi)), List.length_map, List.length_range, hP9]
    calc N * (2 * N + 3) ≤ 32 * (2 * 32 + 3) := Nat.mul_le_mul hN.2 (by omega)
      _ ≤ 50000 := by decide
  have hE : wpb Fs a N secret = wky Fs a ((List.range P9).map f) := by unfold wpb wpE; rw [hf, hP9]
  rw [hE]
  have hPL := fun i => ha.put 4 i
  obtain ⟨i0, hi0, hz0, hz1, hz2⟩ := info_text
  unfold slV at hsg ⊢
  have hzs := zeroSg
  have bx0 := bx.here
  have hal := ha.1
  have hP9b : P9 ≤ 67 := by omega
  have HX := hide (And.intro hfi (And.intro hbl (And.intro hfl (And.intro hel (And.intro hN (And.intro hFl hP9))))))
  have HS := hide (And.intro hs (And.intro ts (And.intro ha hsl)))
  clear hfi hbl hfl hel hN hFl hs ts ha hC hT hF hp tp hf hE hPL hFs hP9 hsl hpl
  go_enter Tryd.func4, Tryd.ntmps4
  go_wp2_with (first
    | (refine wpList_load_rowS (by rfl) 25 _ (by rfl) w.heap.size (by rfl) _ _ _ _ bx0 Tryd.underlying25 (by kernel_rfl) ?_)
    | (go_at_call 9; refine (hsg _ k0).mono ?_; rintro e x1 ⟨fn, cap, Inv, rfl, hD, hI, hBt, g1⟩; have hn1 := heap_alloc_last x1 (.cells (sgC 0 0 0 0 0 false .nilFunc).toArray 35))
    | (refine wpList_store_row rfl 35 _ _ (by rfl) x1.heap.size (sgC (N : Int) H D A K sh (.func (.func fn) #[] cap)).toArray (by rfl) (by rfl) _ _ hn1 (by kernel_rfl) rfl (sg_one _ _ _ _ _ _ rfl) ?_; obtain ⟨g2, hsx⟩ := made_sg x1 (sgC (N : Int) H D A K sh (.func (.func fn) #[] cap)); have hc6 := (BxV.mk hsx).c6; have hc0 := (BxV.mk hsx).c0; have hen := hD.enters; have k2 := keep_trans k0 (keep_trans g1 g2); have La2 := (La.below g1).below g2)
    | (refine wpList_load_rowS (by rfl) 35 _ (by rfl) x1.heap.size (by rfl) _ _ _ _ hsx Tryd.underlying35 (by kernel_rfl) ?_)
    | (go_at_call 10; refine (hct _ _).mono ?_; rintro e x3 ⟨rfl, g3⟩)
    | (at_make; refine wpList_make_full _ rfl _ _ 38 rfl x3.heap.size 26 i0 (.slice none 0 0) 1 Tryd.underlying38 hi0 hz0 hz1 _ _ _ _ P9 rfl rfl rfl rfl (by rw [hz2]; omega) (by unfold maxLen; omega) (Nat.le_refl _) ?_; intro w3 hown hgrow; have hbg3 := (Below.refl x3.heap.size x3).grown hgrow (Nat.le_refl _) (fun k h => by cases h); have sx3 := ((BxV.mk hsx).below g3).below hbg3; have hc03 := sx3.c0)
    | fail)
  have hI2 := hD.keep _ _ hI g2
  have hIx := hD.keep _ _ hI2 g3
  have kx3 := keep_trans k2 g3
  have hXs := Nat.lt_of_lt_of_le La.lt g1.size
  have hX3 : x1.heap.size < x3.heap.size := heap_ltW ((BxV.mk hsx).below g3).here
  have La3 := (La2.below g3).below hbg3
  have sx9 := sx3
  have k39 := hbg3
  obtain ⟨X, hX⟩ : ∃ X : Nat, x1.heap.size = X := ⟨_, rfl⟩
  rw [hX] at sx9 hXs hX3 ⊢
  have hU : UpW w3 x3.heap.size P9 0 f := UpW.made f hown
  obtain ⟨H9, hH9⟩ : ∃ H9 : Nat, x3.heap.size = H9 := ⟨_, rfl⟩
  have hAH : w.heap.size + 1 ≠ H9 := by
    omega
  have hXH : X ≠ H9 := by omega
  have hwH : w.heap.size ≤ H9 := by have := kx3.size; omega
  rw [hH9] at hU ⊢
  have hx9 : ∀ y : World, But H9 w3 y → Below x3.heap.size x3 y := fun y hb => k39.trans (hb.below (by omega) k39.size)
  have H0 := hide (PuW.start f hU)
  have HA := hide (And.intro sx9 (And.intro La3 (And.intro hIx (And.intro kx3 hx9))))
  clear hsx hc0 hc6 hn1 g1 g2 hBt hI hI2 hIx kx3 La2 La3 sx3 sx9 hc03 hown hgrow hbg3 g3 k39 hX hX3 hH9 hx9 k2 hU La k0 bx bx0 hXs
  go_loopw [27] (fun vi wr => PuW w3 H9 P9 f vi wr) (fun vi _ => P9 - (intOf vi).toNat)
  case atStart => exact H0.out
  case round =>
    obtain ⟨i, hi', rfl, hUr, hbr⟩ := hrel
    clear H0
    rename World => wr
    obtain ⟨hfi, hbl, hfl, hel, hN, hFl, hP9⟩ := HX.out
    obtain ⟨sx9, La3, hIx, kx3, hx9⟩ := HA.out
    have sxr := sx9.but hbr hXH
    have Lar := La3.but hbr hAH
    have hIr := hD.keep _ _ hIx (hx9 wr hbr)
    have hwr := keep_trans kx3 (hx9 wr hbr)
    by_cases hlt : i < P9
    · have hii : (i : Int) < (P9 : Int) := by omega
      have z_i : (0 : Int) ≤ (i : Int) := Int.natCast_nonneg _
      obtain ⟨I9, hI9⟩ : ∃ I : Nat, I = i + 1 := ⟨_, rfl⟩
      have e_I : (i : Int) + 1 = (I9 : Int) := by omega
      have s_I : IntKind.i64.wrap (I9 : Int) = (I9 : Int) := by rw [IntKind.wrap_i64]; omega
      have hfi0 := hfl i hlt
      have hi6 : i < 65536 := by omega
      obtain ⟨hs, ts, ha, hsl⟩ := HS.out
      have rsr := hs.below hwr
      have hXl := hbl i
      have hbg := fun y (hI : Inv y) rs => wbgn_any (N := N) (H := H) (D := D) (A := A) (K := K) sh a secret i _ y hD hI ha rs ts (by omega) hi6
      have hal9 : ∀ y yv, Inv y → Row .u8 256 y yv (wbg Fs a secret i) → Tidy yv → Calls Tryd.prog 11 #[.agg (sgC (N : Int) H D A K sh (.func (.func fn) #[] cap)).toArray, .agg (arr .u8 a), .int .i64 (i : Int), yv, .int .u32 0, .int .u32 15] y fun e w' => ∃ v, e = .returned v ∧ Row .u8 256 w' v (f i) ∧ Tidy v ∧ (New y.heap.size v ∨ v = yv) ∧ Below y.heap.size y w' := fun y yv hI ry ty => by
        have := walg_any (N := N) (H := H) (D := D) (A := A) (K := K) sh a _ i 0 15 yv y hD hI ha hFl (by omega) ry ty hXl hi6 (by decide)
        rw [hfi] at this
        exact this
      have hbd : But H9 wr wr.drew := (But.refl _ _).drew
      have kb : Below wr.heap.size wr wr.drew := (Below.refl _ _).drew
      have HK := hide (And.intro hI9 (And.intro hlt hbr))
      have hN16 := hN.1
      clear hfi hbl hfl hel hFl hI9 hbr hi' sx9 La3 hIx hx9 kx3
      go_wp2
      refine at_begin (ops := opsA (cRA (cBA (cLA (cRA (cRA (cLpA (cBA (cRA (cLA (cRA (cRA (cRA (cRA (Tryd.f4.body.getD .skip))))))))))))))) (n := 13) (fun y => But H9 wr y) (by kernel_rfl) (by kernel_rfl) ?_
      refine at_takeD (i := 0) (m' := 1) (d := some 30) (v := .slice (some ⟨H9, 0, none⟩) P9 P9) pw8reg rfl (by decide) rfl rfl (y_moveG (wanted_free rfl) rfl rfl) hbd ?_
      simp only [Act.put, List.setIfInBounds_toArray, List.set_cons_zero, List.set_cons_succ]
      refine at_takeD (i := 1) (m' := 3) (d := some 31) (v := .int .i64 (i : Int)) pw8reg rfl (by decide) rfl rfl (y_moveG (wanted_free rfl) rfl rfl) hbd ?_
      simp only [Act.put, List.setIfInBounds_toArray, List.set_cons_zero, List.set_cons_succ]
      refine at_takeD (i := 2) (m' := 7) (d := some 32) (v := .agg (sgC (N : Int) H D A K sh (.func (.func fn) #[] cap)).toArray) pw8reg rfl (by decide) rfl rfl (y_rowG (cs := sgC (N : Int) H D A K sh (.func (.func fn) #[] cap)) (wanted_free rfl) rfl rfl Tryd.underlying35 rfl (by kernel_rfl) (fun _ h => (sxr.but h hXH).range)) hbd ?_
      simp only [Act.put, List.setIfInBounds_toArray, List.set_cons_zero, List.set_cons_succ]
      refine at_takeD (i := 3) (m' := 15) (d := some 33) (v := .agg (arr .u8 a)) pw8reg rfl (by decide) rfl rfl (y_rowG (cs := vals .u8 a) (wanted_free rfl) rfl rfl Tryd.underlying23 rfl (by rw [vals_length, hal]; kernel_rfl) (fun _ h => lies_rangeW (Lar.but h hAH))) hbd ?_
      simp only [Act.put, List.setIfInBounds_toArray, List.set_cons_zero, List.set_cons_succ]
      refine at_takeD (i := 4) (m' := 31) (d := some 34) (v := .int .i64 (i : Int)) pw8reg rfl (by decide) rfl rfl (y_moveG (wanted_free rfl) rfl rfl) hbd ?_
      simp only [Act.put, List.setIfInBounds_toArray, List.set_cons_zero, List.set_cons_succ]
      refine at_takeD (i := 5) (m' := 63) (d := some 35) (v := .agg (sgC (N : Int) H D A K sh (.func (.func fn) #[] cap)).toArray) pw8reg rfl (by decide) rfl rfl (y_rowG (cs := sgC (N : Int) H D A K sh (.func (.func fn) #[] cap)) (wanted_free rfl) rfl rfl Tryd.underlying35 rfl (by kernel_rfl) (fun _ h => (sxr.but h hXH).range)) hbd ?_
      simp only [Act.put, List.setIfInBounds_toArray, List.set_cons_zero, List.set_cons_succ]
      refine at_takeD (i := 6) (m' := 127) (d := some 36) (v := .agg (arr .u8 a)) pw8reg rfl (by decide) rfl rfl (y_rowG (cs := vals .u8 a) (wanted_free rfl) rfl rfl Tryd.underlying23 rfl (by rw [vals_length, hal]; kernel_rfl) (fun _ h => lies_rangeW (Lar.but h hAH))) hbd ?_
      simp only [Act.put, List.setIfInBounds_toArray, List.set_cons_zero, List.set_cons_succ]
      refine at_takeD (i := 7) (m' := 255) (d := some 37) (v := .int .i64 (i : Int)) pw8reg rfl (by decide) rfl rfl (y_moveG (wanted_free rfl) rfl rfl) hbd ?_
      simp only [Act.put, List.setIfInBounds_toArray, List.set_cons_zero, List.set_cons_succ]
      refine at_takeD (i := 8) (m' := 511) (d := some 38) (v := .slice sa N sc) pw8reg rfl (by decide) rfl rfl (y_moveG (wanted_free rfl) rfl rfl) hbd ?_
      simp only [Act.put, List.setIfInBounds_toArray, List.set_cons_zero, List.set_cons_succ]
      refine at_one (i := 9) (m' := 1023) pw8reg (by decide) rfl ?_
      refine p_callG (args := #[.agg (sgC (N : Int) H D A K sh (.func (.func fn) #[] cap)).toArray, .agg (arr .u8 a), .int .i64 (i : Int), .slice sa N sc]) (d := some 39) rfl (wanted_free rfl) rfl (by simp only [List.map_toArray, List.map_cons, List.map_nil]; rfl) rfl Tryd.call12 ((hbg wr.drew (hD.keep _ _ hIr kb) (rsr.below kb)).mono ?_)
      rintro e y10 ⟨dv, rfl, rd, nd, g10⟩
      have td := new_ntidy rd (by rw [hXl]; omega)
      obtain ⟨da, dc, rfl, _⟩ := rd.opens hXl
      replace kb := keep_trans kb g10
      have hb10 := but_keepW hbd g10
      refine ⟨_, rfl, hb10, ?_⟩
      simp only [Act.put, List.setIfInBounds_toArray, List.set_cons_zero, List.set_cons_succ]
      refine at_one (i := 10) (m' := 2047) pw8reg (by decide) rfl ?_
      refine p_callG (args := #[.agg (sgC (N : Int) H D A K sh (.func (.func fn) #[] cap)).toArray, .agg (arr .u8 a), .int .i64 (i : Int), .slice da N dc, .int .u32 0, .int .u32 15]) (d := some 40) rfl (wanted_free rfl) rfl (by simp only [List.map_toArray, List.map_cons, List.map_nil]; rfl) rfl Tryd.call11 ((hal9 y10 _ (hD.keep _ _ hIr kb) rd td).mono ?_)
      rintro e y11 ⟨xv, rfl, rx, tx, nx, g11⟩
      have kc := kb
      replace kb := keep_trans kb g11
      obtain ⟨xa, xc, rfl, _⟩ := rx.opens hfi0
      have hb11 := but_keepW hb10 g11
      refine ⟨_, rfl, hb11, ?_⟩
      simp only [Act.put, List.setIfInBounds_toArray, List.set_cons_zero, List.set_cons_succ]
      refine at_takeD (i := 11) (m' := 4095) (d := some 41) (v := .pointer (some ⟨H9, i, none⟩)) pw8reg rfl (by decide) rfl rfl (y_ix0W (wanted_free rfl) rfl rfl rfl Tryd.underlying38 (by kernel_rfl) hlt) hb11 ?_
      simp only [Act.put, List.setIfInBounds_toArray, List.set_cons_zero, List.set_cons_succ]
      refine at_one (i := 12) (m' := 8191) pw8reg (by decide) rfl ?_
      have hsz := kb
      refine p_store_plain (P := Tryd.prog) rfl rfl rfl rfl rfl rfl Tryd.underlying26 rfl (by kernel_rfl) ((hUr.below kb).any hlt) ((hUr.below kb).frozen i) ?_
      have hb13 := hb11.setCell i (.slice xa N xc)
      refine ⟨hb13, ?_⟩
      refine at_done pw8reg (by decide) ?_
      go_wp2
      obtain ⟨hI9, hlt, hbr⟩ := HK.out
      have hn : ∀ q, (Value.slice xa N xc).ownBlock = some q → q ≠ H9 := fun q hq => by
        have hl := hUr.lt
        have hz : wr.drew.heap.size = wr.heap.size := rfl
        rcases nx with nx | nx
        · have h1 := nx q hq
          have h2 := kc.size
          omega
        · rw [nx] at hq
          have h1 := nd q hq
          omega
      have hnext := PuW.next hUr hbr kb hlt rx tx hn
      rw [← hI9] at hnext
      exact ⟨hnext, by simp [intOf]; omega⟩
    · obtain rfl : i = P9 := by omega
      have hge : ¬ ((i : Int) < (i : Int)) := by omega
      have rr := hUr.rows (by omega)
      have hky := wkey_any (N := N) (H := H) (D := D) (A := A) (K := K) sh a _ _ wr hD hIr HS.out.2.2.1 rr hel
      have hsxr := sxr.here
      have HK := hide hwr
      clear hfi hbl hfl hel hFl hbr hi' sx9 La3 hIx hx9 kx3 rr hwr hP9 hN
      go_wp2_with (first
        | (refine wpList_load_rowS (by rfl) 35 _ (by rfl) X (by rfl) _ _ _ _ hsxr Tryd.underlying35 (by kernel_rfl) ?_)
        | (refine wpList_load_row rfl 23 _ (by rfl) (w.heap.size + 1) (by rfl) _ _ _ (.array 32 5) Lar (by kernel_rfl) rfl (by rw [arr_size, hal]; kernel_rfl) ?_)
        | (go_at_call 13; refine hky.mono ?_; rintro e w9 ⟨v9, rfl, r9, n9, g9⟩)
        | fail)
      go_ret
      exact ⟨_, rfl, r9, n9.mono HK.out.size, keep_trans HK.out g9⟩
end
end Go.Proofs.YtpmobjfhhkglbaaDoor
