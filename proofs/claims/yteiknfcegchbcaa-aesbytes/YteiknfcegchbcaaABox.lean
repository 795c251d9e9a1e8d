/- The document's tables of boxes. -/
import Derived.Test.YteiknfcegchbcaaAMul
import Derived.Test.YteiknfcegchbcaaHKi2
import Derived.Test.YteiknfcegchbcaaAPln
namespace Go.Proofs.Yteiknfcegchbcaa
open Go.RowKit
set_option linter.unusedVariables false
set_option linter.unusedSimpArgs false

def zA (n : Nat) : List Nat := List.replicate n 0
theorem zA_len (n : Nat) : (zA n).length = n := List.length_replicate
theorem zero256 : ∀ w, (zeroValue 47).run Try.prog w = .ok (.agg (arr .u8 (zA 256))) w := zero_arr (by kernel_rfl)
/-- the tables, so far -/
def thA : Nat → List Nat
  | 0 => zA 256
  | i + 1 => (thA i).set i (boxB i)
def bkA : Nat → List Nat
  | 0 => zA 256
  | i + 1 => (bkA i).set (boxB i) i
theorem thA_len : ∀ i, (thA i).length = 256
  | 0 => zA_len _
  | i + 1 => by unfold thA; rw [List.length_set, thA_len i]
theorem bkA_len : ∀ i, (bkA i).length = 256
  | 0 => zA_len _
  | i + 1 => by unfold bkA; rw [List.length_set, bkA_len i]
theorem thA_all : thA 256 = boxT := by kernel_rfl
theorem bkA_all : bkA 256 = unT := by kernel_rfl
theorem boxT_len : boxT.length = 256 := by kernel_rfl
theorem unT_len : unT.length = 256 := by kernel_rfl
/-- where the loop stands -/
def BxL (w : World) (vi : Value) (wr : World) : Prop := ∃ i : Nat, i ≤ 256 ∧ vi = .int .i64 (i : Int) ∧ Lies .u8 47 wr (w.heap.size + 2) (thA i) ∧ Lies .u8 47 wr (w.heap.size + 3) (bkA i) ∧ Lies .u8 47 wr w.heap.size (zA 256) ∧ Lies .u8 47 wr (w.heap.size + 1) (zA 256) ∧ Below w.heap.size w wr
def bxlt : List Lt := [(0, some 20, [2]), (0, some 21, [3]), (1, none, [0, 20]), (7, none, [1, 21])]
theorem bxreg : Reg (opsA (cLA (cRA (cRA (cRA (cRA (Try.f27.body.getD .skip))))))) bxlt := ⟨by kernel_rfl, by kernel_rfl⟩
theorem bxis : (cLA (cRA (cRA (cRA (cRA (Try.f27.body.getD .skip)))))) = .region 9 (opsA (cLA (cRA (cRA (cRA (cRA (Try.f27.body.getD .skip))))))) true := by kernel_rfl
structure BxF (w : World) (a : Act) : Prop where
  fz : Fz 22 a
  t0 : a.eval (.tmp 0) = .pointer (some ⟨w.heap.size, 0, none⟩)
  t1 : a.eval (.tmp 1) = .pointer (some ⟨w.heap.size + 1, 0, none⟩)
  t2 : a.eval (.tmp 2) = .pointer (some ⟨w.heap.size + 2, 0, none⟩)
  t3 : a.eval (.tmp 3) = .pointer (some ⟨w.heap.size + 3, 0, none⟩)
structure BxS (w : World) (y : World) : Prop where
  a : Lies .u8 47 y (w.heap.size + 2) boxT
  b : Lies .u8 47 y (w.heap.size + 3) unT
section
variable {w : World} {Q : Exit → Act → World → Prop}
theorem lies_rangeA {w : World} {k : IntKind} {t : TypeId} {g : Nat} {l : List Nat} (h : Lies k t w g l) : w.rangeAt g 0 (vals k l) := fun j v hv => by
  have hj : j < l.length := by have := (List.getElem?_eq_some_iff.1 hv).1; rwa [vals_length] at this
  rw [Nat.zero_add, h.cell hj, ← hv, vals_get k l j hj]
theorem BxF.step {a : Act} {x : World} (h : BxF w a) {k fuel m : Nat} {v : Value} {d : Option Nat} {ops : Array Oper} {S : World → Prop} (hd : d = some k) (h3 : 4 ≤ k) (hk : k < 22)
    (hc : ∀ a' : Act, BxF w a' → a'.eval (.tmp k) = v → (∀ j, k ≠ j → a'.eval (.tmp j) = a.eval (.tmp j)) → At Try.prog ops Q S fuel m a' x) : At Try.prog ops Q S fuel m (a.put d v) x := by
  subst hd
  exact hc _ ⟨h.fz.put _ _, (put_else (by omega)).trans h.t0, (put_else (by omega)).trans h.t1, (put_else (by omega)).trans h.t2, (put_else (by omega)).trans h.t3⟩ (put_same (by rw [h.fz.1]; exact hk)) (fun j hj => put_else hj)
set_option maxRecDepth 100000 in
theorem bx_9 (hQ : ∀ (a : Act) (x : World), BxF w a → Lies .u8 47 x w.heap.size boxT → Lies .u8 47 x (w.heap.size + 1) unT → Below w.heap.size w x → Q .normal a x)
    {a : Act} {x : World} (F : BxF w a) (hA : Lies .u8 47 x (w.heap.size + 2) boxT) (hB : Lies .u8 47 x (w.heap.size + 3) unT) (h0 : Lies .u8 47 x w.heap.size (zA 256)) (h1 : Lies .u8 47 x (w.heap.size + 1) (zA 256)) (hb : Below w.heap.size w x) : Code.wp Try.prog (cLA (cRA (cRA (cRA (cRA (Try.f27.body.getD .skip)))))) Q a x := by
  rw [bxis]
  have s1 : (vals .u8 boxT).length = 256 := by rw [vals_length, boxT_len]
  have s2 : (vals .u8 unT).length = 256 := by rw [vals_length, unT_len]
  have hbd : Below x.heap.size x x.drew := (Below.refl _ _).drew
  have hS : BxS w x.drew := ⟨hA.below hbd, hB.below hbd⟩
  replace h0 := h0.below hbd
  replace h1 := h1.below hbd
  replace hb := keep_trans hb hbd
  refine at_begin (n := 4) (BxS w) (by kernel_rfl) (by kernel_rfl) ?_
  generalize x.drew = y at *
  refine at_take (i := 0) (m' := 1) bxreg rfl (by decide) rfl (y_load_row (cs := vals .u8 boxT) rfl rfl F.t2 Try.underlying47 rfl (by rw [s1]; kernel_rfl) (fun _ h => lies_rangeA h.a)) hS ?_
  refine F.step (k := 20) rfl (by decide) (by decide) ?_
  intro a1 F1 s20 e1
  refine at_take (i := 1) (m' := 3) bxreg rfl (by decide) rfl (y_load_row (cs := vals .u8 unT) rfl rfl F1.t3 Try.underlying47 rfl (by rw [s2]; kernel_rfl) (fun _ h => lies_rangeA h.b)) hS ?_
  refine F1.step (k := 21) rfl (by decide) (by decide) ?_
  intro a2 F2 s21 e2
  replace s20 : a2.eval (.tmp 20) = .agg (arr .u8 boxT) := (e2 20 (by decide)).trans s20
  replace s21 : a2.eval (.tmp 21) = .agg (arr .u8 unT) := s21
  have hB0 : But w.heap.size y (y.setRow w.heap.size (arr .u8 boxT)) := But.setRow (But.refl _ _) _
  refine at_one (i := 2) (m' := 7) bxreg (by decide) rfl ?_
  refine p_rowA rfl rfl rfl rfl F2.t0 s20 h0 (by rw [arr_size, boxT_len]; kernel_rfl) (by rw [arr_size, arr_size, boxT_len, zA_len]) (arr_one _ _) ⟨⟨hS.a.but hB0 (by omega), hS.b.but hB0 (by omega)⟩, ?_⟩
  have k0 := h0.row (l' := boxT)
  have k1 := h1.but hB0 (by omega)
  have kb := hb.trans (hB0.below (Nat.le_refl _) hb.size)
  have ka := hS.a.but hB0 (by omega)
  have kc := hS.b.but hB0 (by omega)
  generalize y.setRow w.heap.size (arr .u8 boxT) = z at *
  have hB1 : But (w.heap.size + 1) z (z.setRow (w.heap.size + 1) (arr .u8 unT)) := But.setRow (But.refl _ _) _
  refine at_one (i := 3) (m' := 15) bxreg (by decide) rfl ?_
  refine p_rowA rfl rfl rfl rfl F2.t1 s21 k1 (by rw [arr_size, unT_len]; kernel_rfl) (by rw [arr_size, arr_size, unT_len, zA_len]) (arr_one _ _) ⟨⟨ka.but hB1 (by omega), kc.but hB1 (by omega)⟩, ?_⟩
  exact at_done bxreg (by decide) (hQ _ _ F2 (k0.but hB1 (by omega)) k1.row (kb.trans (hB1.below (by omega) kb.size)))
end
set_option maxHeartbeats 4000000 in
set_option maxRecDepth 100000 in
theorem rboxes_any (w : World) : Calls Try.prog 27 #[] w fun e w' => e = .returned (.tuple #[.agg (arr .u8 boxT), .agg (arr .u8 unT)]) ∧ Below w.heap.size w w' := by
  have hz := zero256
  have L0 := (((Lies.new .u8 47 w (zA 256)).alloc (.cells (arr .u8 (zA 256)) 47)).alloc (.cells (arr .u8 (zA 256)) 47)).alloc (.cells (arr .u8 (zA 256)) 47)
  have L1 := ((Lies.new .u8 47 (w.alloc (.cells (arr .u8 (zA 256)) 47)) (zA 256)).alloc (.cells (arr .u8 (zA 256)) 47)).alloc (.cells (arr .u8 (zA 256)) 47)
  have L2 := (Lies.new .u8 47 ((w.alloc (.cells (arr .u8 (zA 256)) 47)).alloc (.cells (arr .u8 (zA 256)) 47)) (zA 256)).alloc (.cells (arr .u8 (zA 256)) 47)
  have L3 := Lies.new .u8 47 (((w.alloc (.cells (arr .u8 (zA 256)) 47)).alloc (.cells (arr .u8 (zA 256)) 47)).alloc (.cells (arr .u8 (zA 256)) 47)) (zA 256)
  have hb := keep_trans (keep_trans (keep_trans (keep_alloc w (.cells (arr .u8 (zA 256)) 47)) (keep_alloc _ (.cells (arr .u8 (zA 256)) 47))) (keep_alloc _ (.cells (arr .u8 (zA 256)) 47))) (keep_alloc _ (.cells (arr .u8 (zA 256)) 47))
  simp only [World.size_alloc, Nat.add_assoc, Nat.reduceAdd] at L1 L2 L3
  go_enter Try.func27, Try.ntmps27
  go_wp2
  generalize (((w.alloc (.cells (arr .u8 (zA 256)) 47)).alloc (.cells (arr .u8 (zA 256)) 47)).alloc (.cells (arr .u8 (zA 256)) 47)).alloc (.cells (arr .u8 (zA 256)) 47) = x1 at *
  clear hz
  go_loopw [4] (fun vi wr => BxL w vi wr) (fun vi _ => 256 - (intOf vi).toNat)
  case atStart => exact ⟨0, by decide, rfl, L2, L3, L0, L1, hb⟩
  case round =>
    obtain ⟨i, hi, rfl, hA, hB, h0, h1, hbr⟩ := hrel
    clear L0 L1 L2 L3 hb
    by_cases hlt : i < 256
    · have hli : (i : Int) < 256 := by omega
      have hbx := fun y => rbox_any i hlt y
      have hcl := boxB_lt hlt
      have eth : thA (i + 1) = (thA i).set i (boxB i) := rfl
      have ebk : bkA (i + 1) = (bkA i).set (boxB i) i := rfl
      have lt1 := thA_len i
      have lt2 := bkA_len i
      have s_i : IntKind.u8.wrap (i : Int) = (i : Int) := by rw [IntKind.wrap_u8]; omega
      have HE := hide (And.intro eth ebk)
      clear eth ebk
      generalize boxB i = c at *
      have ci : (c : Int) < 256 := by omega
      go_wp2_with fail
      refine (hbx _).mono ?_
      rintro e x2 ⟨rfl, hb2⟩
      have hA2 := hA.below hb2
      have hB2 := hB.below hb2
      have a1 := hA2.cell (i := i) (by omega)
      have a2 := hA2.frozen i
      have b1 := hB2.cell (i := c) (by omega)
      have b2 := hB2.frozen c
      go_wp2
      have bA : But (w.heap.size + 2) x2 (x2.setCell ⟨w.heap.size + 2, i, none⟩ (.int .u8 (c : Int))) := (But.refl _ _).setCell i _
      have bB : But (w.heap.size + 3) (x2.setCell ⟨w.heap.size + 2, i, none⟩ (.int .u8 (c : Int))) ((x2.setCell ⟨w.heap.size + 2, i, none⟩ (.int .u8 (c : Int))).setCell ⟨w.heap.size + 3, c, none⟩ (.int .u8 (i : Int))) := (But.refl _ _).setCell c _
      have hbw := keep_trans hbr hb2
      have hb3 := hbw.trans (bA.below (by omega) hbw.size)
      have hb4 := hb3.trans (bB.below (by omega) hb3.size)
      exact ⟨⟨i + 1, by omega, by go_num, by rw [HE.out.1]; exact (hA2.set i c).but bB (by omega), by rw [HE.out.2]; exact (hB2.but bA (by omega)).set c i, ((h0.below hb2).but bA (by omega)).but bB (by omega), ((h1.below hb2).but bA (by omega)).but bB (by omega), hb4⟩, by simp [intOf]; omega⟩
    · obtain rfl : i = 256 := by omega
      rw [thA_all] at hA
      rw [bkA_all] at hB
      go_wp2
      refine bx_9 (w := w) ?_ ⟨⟨rfl, rfl⟩, rfl, rfl, rfl, rfl⟩ hA hB h0 h1 hbr
      rename_i Q' K hK'
      intro a x F k0 k1 kb
      have v0 := run_loadVar_row (P := Try.prog) x w.heap.size _ 47 _ _ _ k0 Try.underlying47 rfl (by rw [arr_size, boxT_len]; kernel_rfl)
      have v1 := run_loadVar_row (P := Try.prog) x (w.heap.size + 1) _ 47 _ _ _ k1 Try.underlying47 rfl (by rw [arr_size, unT_len]; kernel_rfl)
      have e0 : a.tmps.getD 0 undef = .pointer (some ⟨w.heap.size, 0, none⟩) := F.t0
      have e1 : a.tmps.getD 1 undef = .pointer (some ⟨w.heap.size + 1, 0, none⟩) := F.t1
      rw [Array.getD_eq_getD_getElem?] at e0 e1
      refine hK' _ _ (wp_ret ?_)
      refine bodyPost_ret (v := .tuple #[.agg (arr .u8 boxT), .agg (arr .u8 unT)]) ?_ F.fz.2 ⟨rfl, kb⟩
      simp [results, Try.results27, asAddr, e0, e1, v0, v1]
end Go.Proofs.Yteiknfcegchbcaa
