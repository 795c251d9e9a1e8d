/- The document's tables of boxes. -/
import Derived.Test.YtjnlkihhmenfnaaAMul
import Derived.Test.YtjnlkihhmenfnaaHKit
import Derived.Test.YtjnlkihhmenfnaaPlan
namespace Go.Proofs.Ytjnlkihhmenfnaa
open Go.RowKit
set_option linter.unusedVariables false
set_option linter.unusedSimpArgs false

def zA (n : Nat) : List Nat := List.replicate n 0
theorem zA_len (n : Nat) : (zA n).length = n := List.length_replicate
theorem zero256 : ∀ w, (zeroValue 66).run Try.prog w = .ok (.agg (arr .u8 (zA 256))) w := zero_arr (by kernel_rfl)
/-- the tables, so far -/
def thA : Nat → List Nat
  | 0 => zA 256
  | i + 1 => (thA i).set i (boxB i)
def bkA : Nat → List Nat
  | 0 => zA 256
  | i + 1 => (bkA i).set (boxB i) i
theorem thA_len : ∀ i, (thA i).length = 256
  | 0 => zA_len _
  | i + 1 => by unfold thA; rw [List.length_set, thA_len i]
theorem bkA_len : ∀ i, (bkA i).length = 256
  | 0 => zA_len _
  | i + 1 => by unfold bkA; rw [List.length_set, bkA_len i]
theorem thA_all : thA 256 = boxT := by kernel_rfl
theorem bkA_all : bkA 256 = unT := by kernel_rfl
theorem boxT_len : boxT.length = 256 := by kernel_rfl
theorem unT_len : unT.length = 256 := by kernel_rfl
/-- where the loop stands -/
def BxL (w : World) (vi : Value) (wr : World) : Prop := ∃ i : Nat, i ≤ 256 ∧ vi = .int .i64 (i : Int) ∧ Lies .u8 66 wr (w.heap.size + 2) (thA i) ∧ Lies .u8 66 wr (w.heap.size + 3) (bkA i) ∧ Lies .u8 66 wr w.heap.size (zA 256) ∧ Lies .u8 66 wr (w.heap.size + 1) (zA 256) ∧ Below w.heap.size w wr
def bxlt : List Lt := [(0, some 20, [2]), (0, some 21, [3]), (1, none, [0, 20]), (7, none, [1, 21])]
theorem bxreg : Reg (opsA (cLA (cRA (cRA (cRA (cRA (Try.f41.body.getD .skip))))))) bxlt := ⟨by kernel_rfl, by kernel_rfl⟩
theorem bxis : (cLA (cRA (cRA (cRA (cRA (Try.f41.body.getD .skip)))))) = .region 9 (opsA (cLA (cRA (cRA (cRA (cRA (Try.f41.body.getD .skip))))))) true := by kernel_rfl
structure BxF (w : World) (a : Act) : Prop where
  fz : Fz 22 a
  t0 : a.eval (.tmp 0) = .pointer (some ⟨w.heap.size, 0, none⟩)
  t1 : a.eval (.tmp 1) = .pointer (some ⟨w.heap.size + 1, 0, none⟩)
  t2 : a.eval (.tmp 2) = .pointer (some ⟨w.heap.size + 2, 0, none⟩)
  t3 : a.eval (.tmp 3) = .pointer (some ⟨w.heap.size + 3, 0, none⟩)
structure BxS (w : World) (y : World) : Prop where
  a : Lies .u8 66 y (w.heap.size + 2) boxT
  b : Lies .u8 66 y (w.heap.size + 3) unT
section
variable {w : World} {Q : Exit → Act → World → Prop}
theorem lies_rangeA {w : World} {k : IntKind} {t : TypeId} {g : Nat} {l : List Nat} (h : Lies k t w g l) : w.rangeAt g 0 (vals k l) := fun j v hv => by
  have hj : j < l.length := by have := (List.getElem?_eq_some_iff.1 hv).1; rwa [vals_length] at this
  rw [Nat.zero_add, h.cell hj, ← hv, vals_get k l j hj]
theorem BxF.step {a : Act} {x : World} (h : BxF w a) {k fuel m : Nat} {v : Value} {d : Option Nat} {ops : Array Oper} {S : World → Prop} (hd : d = some k) (h3 : 4 ≤ k) (hk : k < 22)
    (hc : ∀ a' : Act, BxF w a' → a'.eval (.tmp k) = v → (∀ j, k ≠ j → a'.eval (.tmp j) = a.eval (.tmp j)) → At Try.prog ops Q S fuel m a' x) : At Try.prog ops Q S fuel m (a.put d v) x := by
  subst hd
  exact hc _ ⟨h.fz.put _ _, (put_else (by omega)).trans h.t0, (put_else (by omega)).trans h.t1, (put_else (by omega)).trans h.t2, (put_else (by omega)).trans h.t3⟩ (put_same (by rw [h.fz.1]; exact hk)) (fun j hj => put_else hj)
set_option maxRecDepth 100000 in
theorem bx_9 (hQ : ∀ (a : Act) (x : World), BxF w a → Lies .u8 66 x w.heap.size boxT → Lies .u8 66 x (w.heap.size + 1) unT → Below w.heap.size w x → Q .normal a x)
    {a : Act} {x : World} (F : BxF w a) (hA : Lies .u8 66 x (w.heap.size + 2) boxT) (hB : Lies .u8 66 x (w.heap.size + 3) unT) (h0 : Lies .u8 66 x w.heap.size (zA 256)) (h1 : Lies .u8 66 x (w.heap.size + 1) (zA 256)) (hb : Below w.heap.size w x) : Code.wp Try.prog (cLA (cRA (cRA (cRA (cRA (Try.f41.body.getD .skip)))))) Q a x := by
  rw [bxis]
  have s1 : (vals .u8 boxT).length = 256 := by rw [vals_length, boxT_len]
  have s2 : (vals .u8 unT).length = 256 := by rw [vals_length, unT_len]
  have hbd : Below x.heap.size x x.drew := (Below.refl _ _).drew
  have hS : BxS w x.drew := ⟨hA.below hbd, hB.below hbd⟩
  replace h0 := h0.below hbd
  replace h1 := h1.below hbd
  replace hb := keep_trans hb hbd
  refine at_begin (n := 4) (BxS w) (by kernel_rfl) (by kernel_rfl) ?_
  generalize x.drew = y at *
  refine at_take (i := 0) (m' := 1) bxreg rfl (by decide) rfl (y_load_row (cs := vals .u8 boxT) rfl rfl F.t2 Try.underlying66 rfl (by rw [s1]; kernel_rfl) (fun _ h => lies_rangeA h.a)) hS ?_
  refine F.step (k := 20) rfl (by decide) (by decide) ?_
  intro a1 F1 s20 e1
  refine at_take (i := 1) (m' := 3) bxreg rfl (by decide) rfl (y_load_row (cs := vals .u8 unT) rfl rfl F1.t3 Try.underlying66 rfl (by rw [s2]; kernel_rfl) (fun _ h => lies_rangeA h.b)) hS ?_
  refine F1.step (k := 21) rfl (by decide) (by decide) ?_
  intro a2 F2 s21 e2
  replace s20 : a2.eval (.tmp 20) = .agg (arr .u8 boxT) := (e2 20 (by decide)).trans s20
  replace s21 : a2.eval (.tmp 21) = .agg (arr .u8 unT) := s21
  have hB0 : But w.heap.size y (y.setRow w.heap.size (arr .u8 boxT)) := But.setRow (But.refl _ _) _
  refine at_one (i := 2) (m' := 7) bxreg (by decide) rfl ?_
  refine p_rowA rfl rfl rfl rfl F2.t0 s20 h0 (by rw [arr_size, boxT_len]; kernel_rfl) (by rw [arr_size, arr_size, boxT_len, zA_len]) (arr_one _ _) ⟨⟨hS.a.but hB0 (by omega), hS.b.but hB0 (by omega)⟩, ?_⟩
  have k0 := h0.row (l' := boxT)
  have k1 := h1.but hB0 (by omega)
  have kb := hb.trans (hB0.below (Nat.le_refl _) hb.size)
  have ka := hS.a.but hB0 (by omega)
  have kc := hS.b.but hB0 (by omega)
  generalize y.setRow w.heap.size (arr .u8 boxT) = z at *
  have hB1 : But (w.heap.size + 1) z (z.setRow (w.heap.size + 1) (arr .u8 unT)) := But.setRow (But.refl _ _) _
  refine at_one (i := 3) (m' := 15) bxreg (by decide) rfl ?_
  refine p_rowA rfl rfl rfl rfl F2.t1 s21 k1 (by rw [arr_size, unT_len]; kernel_rfl) (by rw [arr_size, arr_size, unT_len, zA_len]) (arr_one _ _) ⟨⟨ka.but hB1 (by omega), kc.but hB1 (by omega)⟩, ?_⟩
  exact at_done bxreg (by decide) (hQ _ _ F2 (k0.but hB1 (by omega)) k1.row (kb.trans (hB1.below (by omega) kb.size)))
end
set_option maxHeartbeats 4000000 in
set_option maxRecDepth 100000 in
theorem rboxes_any (w : World) : Calls Try.prog 41 #[] w fun e w' => e = .returned (.tuple #[.agg (arr .u8 boxT), .agg (arr .u8 unT)]) ∧ Below w.heap.size w w' := by
  have hz := zero256
  have L0 := (((Lies.new .u8 66 w (zA 256)).alloc (.cells (arr .u8 (zA 256)) 66)).alloc (.cells (arr .u8 (zA 256)) 66)).alloc (.cells (arr .u8 (zA 256)) 66)
  have L1 := ((Lies.new .u8 66 (w.alloc (.cells (arr .u8 (zA 256)) 66)) (zA 256)).alloc (.cells (arr .u8 (zA 256)) 66)).alloc (.cells (arr .u8 (zA 256)) 66)
  have L2 := (Lies.new .u8 66 ((w.alloc (.cells (arr .u8 (zA 256)) 66)).alloc (.cells (arr .u8 (zA 256)) 66)) (zA 256)).alloc (.cells (arr .u8 (zA 256)) 66)
  have L3 := Lies.new .u8 66 (((w.alloc (.cells (arr .u8 (zA 256)) 66)).alloc (.cells (arr .u8 (zA 256)) 66)).alloc (.cells (arr .u8 (zA 256)) 66)) (zA 256)
  have hb := keep_trans (keep_trans (keep_trans (keep_alloc w (.cells (arr .u8 (zA 256)) 66)) (keep_alloc _ (.cells (arr .u8 (zA 256)) 66))) (keep_alloc _ (.cells (arr .u8 (zA 256)) 66))) (keep_alloc _ (.cells (arr .u8 (zA 256)) 66))
  simp only [World.size_alloc, Nat.add_assoc, Nat.reduceAdd] at L1 L2 L3
  go_enter Try.func41, Try.ntmps41
  go_wp2
  generalize (((w.alloc (.cells (arr .u8 (zA 256)) 66)).alloc (.cells (arr .u8 (zA 256)) 66)).alloc (.cells (arr .u8 (zA 256)) 66)).alloc (.cells (arr .u8 (zA 256)) 66) = x1 at *
  clear hz
  go_loopw [4] (fun vi wr => BxL w vi wr) (fun vi _ => 256 - (intOf vi).toNat)
  case atStart => exact ⟨0, by decide, rfl, L2, L3, L0, L1, hb⟩
  case round =>
    obtain ⟨i, hi, rfl, hA, hB, h0, h1, hbr⟩ := hrel
    clear L0 L1 L2 L3 hb
    by_cases hlt : i < 256
    · have hli : (i : Int) < 256 := by omega
      have hbx := fun y => rbox_any i hlt y
      have hcl := boxB_lt hlt
      have eth : thA (i + 1) = (thA i).set i (boxB i) := rfl
      have ebk : bkA (i + 1) = (bkA i).set (boxB i) i := rfl
      have lt1 := thA_len i
      have lt2 := bkA_len i
      have s_i : IntKind.u8.wrap (i : Int) = (i : Int) := by rw [IntKind.wrap_u8]; omega
      have HE := hide (And.intro eth ebk)
      clear eth ebk
      generalize boxB i = c at *
      have ci : (c : Int) < 256 := by omega
      go_wp2_with fail
      refine (hbx _).mono ?_
      rintro e x2 ⟨rfl, hb2⟩
      have hA2 := hA.below hb2
      have hB2 := hB.below hb2
      have a1 := hA2.cell (i := i) (by omega)
      have a2 := hA2.frozen i
      have b1 := hB2.cell (i := c) (by omega)
      have b2 := hB2.frozen c
      go_wp2
      have bA : But (w.heap.size + 2) x2 (x2.setCell ⟨w.heap.size + 2, i, none⟩ (.int .u8 (c : Int))) := (But.refl _ _).setCell i _
      have bB : But (w.heap.size + 3) (x2.setCell ⟨w.heap.size + 2, i, none⟩ (.int .u8 (c : Int))) ((x2.setCell ⟨w.heap.size + 2, i, none⟩ (.int .u8 (c : Int))).setCell ⟨w.heap.size + 3, c, none⟩ (.int .u8 (i : Int))) := (But.refl _ _).setCell c _
      have hbw := keep_trans hbr hb2
      have hb3 := hbw.trans (bA.below (by omega) hbw.size)
      have hb4 := hb3.trans (bB.below (by omega) hb3.size)
      exact ⟨⟨i + 1, by omega, by go_num, by rw [HE.out.1]; exact (hA2.set i c).but bB (by omega), by rw [HE.out.2]; exact (hB2.but bA (by omega)).set c i, ((h0.below hb2).but bA (by omega)).but bB (by omega), ((h1.below hb2).but bA (by omega)).but bB (by omega), hb4⟩, by simp [intOf]; omega⟩
    · obtain rfl : i = 256 := by omega
      rw [thA_all] at hA
      rw [bkA_all] at hB
      go_wp2
      refine bx_9 (w := w) ?_ ⟨⟨rfl, rfl⟩, rfl, rfl, rfl, rfl⟩ hA hB h0 h1 hbr
      rename_i Q' K hK'
      intro a x F k0 k1 kb
      have v0 := run_loadVar_row (P := Try.prog) x w.heap.size _ 66 _ _ _ k0 Try.underlying66 rfl (by rw [arr_size, boxT_len]; kernel_rfl)
      have v1 := run_loadVar_row (P := Try.prog) x (w.heap.size + 1) _ 66 _ _ _ k1 Try.underlying66 rfl (by rw [arr_size, unT_len]; kernel_rfl)
      have e0 : a.tmps.getD 0 undef = .pointer (some ⟨w.heap.size, 0, none⟩) := F.t0
      have e1 : a.tmps.getD 1 undef = .pointer (some ⟨w.heap.size + 1, 0, none⟩) := F.t1
      rw [Array.getD_eq_getD_getElem?] at e0 e1
      refine hK' _ _ (wp_ret ?_)
      refine bodyPost_ret (v := .tuple #[.agg (arr .u8 boxT), .agg (arr .u8 unT)]) ?_ F.fz.2 ⟨rfl, kb⟩
      simp [results, Try.results41, asAddr, e0, e1, v0, v1]
end Go.Proofs.Ytjnlkihhmenfnaa

/- The code's tables: spread, powers, boxes, inverse, Box. -/
namespace Go.Proofs.Ytjnlkihhmenfnaa
open Go.RowKit
set_option linter.unusedVariables false
set_option linter.unusedSimpArgs false

/-- the powers of x + 1 -/
def powT : List Nat := [1, 3, 5, 15, 17, 51, 85, 255, 26, 46, 114, 150, 161, 248, 19, 53, 95, 225, 56, 72, 216, 115, 149, 164, 247, 2, 6, 10, 30, 34, 102, 170] ++ [229, 52, 92, 228, 55, 89, 235, 38, 106, 190, 217, 112, 144, 171, 230, 49, 83, 245, 4, 12, 20, 60, 68, 204, 79, 209, 104, 184, 211, 110, 178, 205] ++ [76, 212, 103, 169, 224, 59, 77, 215, 98, 166, 241, 8, 24, 40, 120, 136, 131, 158, 185, 208, 107, 189, 220, 127, 129, 152, 179, 206, 73, 219, 118, 154] ++ [181, 196, 87, 249, 16, 48, 80, 240, 11, 29, 39, 105, 187, 214, 97, 163, 254, 25, 43, 125, 135, 146, 173, 236, 47, 113, 147, 174, 233, 32, 96, 160] ++ [251, 22, 58, 78, 210, 109, 183, 194, 93, 231, 50, 86, 250, 21, 63, 65, 195, 94, 226, 61, 71, 201, 64, 192, 91, 237, 44, 116, 156, 191, 218, 117] ++ [159, 186, 213, 100, 172, 239, 42, 126, 130, 157, 188, 223, 122, 142, 137, 128, 155, 182, 193, 88, 232, 35, 101, 175, 234, 37, 111, 177, 200, 67, 197, 84] ++ [252, 31, 33, 99, 165, 244, 7, 9, 27, 45, 119, 153, 176, 203, 70, 202, 69, 207, 74, 222, 121, 139, 134, 145, 168, 227, 62, 66, 198, 81, 243, 14] ++ [18, 54, 90, 238, 41, 123, 141, 140, 143, 138, 133, 148, 167, 242, 13, 23, 57, 75, 221, 124, 132, 151, 162, 253, 28, 36, 108, 180, 199, 82, 246, 1]
def pwN (i : Nat) : Nat := if i < 256 then el powT i else 3
theorem powT_len : powT.length = 256 := by kernel_rfl
theorem pw_lt (i : Nat) : pwN i < 256 := by
  unfold pwN
  split
  · exact el_lt (dec_under (by kernel_rfl)) (by decide) i
  · decide
theorem pw_next {i : Nat} (h : i < 256) : pwN (i + 1) = pwN i ^^^ xt (pwN i) := by
  have : ((List.range 256).all fun i => pwN (i + 1) == pwN i ^^^ xt (pwN i)) = true := by kernel_rfl
  exact eq_of_beq (all256 this i h)
theorem pw_all : upd pwN (zA 256) 256 = powT := by
  refine ext_el (by rw [upd_len, zA_len, powT_len]) fun i hi => ?_
  rw [upd_len, zA_len] at hi
  rw [upd_el _ _ _ (by rw [zA_len]; exact Nat.le_refl _), if_pos hi]
  unfold pwN
  rw [if_pos hi]
theorem pw_el {i : Nat} (h : i < 256) : el powT i = pwN i := by unfold pwN; rw [if_pos h]
/-- a byte spread -/
def spB (c : Nat) : Nat := boxS 5 c 0 99
theorem spB_lt {c : Nat} (h : c < 256) : spB c < 256 := by
  have : ((List.range 256).all fun c => decide (spB c < 256)) = true := by kernel_rfl
  exact of_decide_eq_true (all256 this c h)
def wide (c : Int) : Int := bits .xor .u32 (bits .xor .u32 (bits .xor .u32 (bits .xor .u32 c (c * 2)) (c * 4)) (c * 8)) (c * 16)
theorem spread_int (c : Nat) (h : c < 256) : IntKind.u8.wrap (bits .xor .u32 (bits .xor .u32 (wide (c : Int)) (wide (c : Int) / 256)) 99) = ((spB c : Nat) : Int) := by
  have : ((List.range 256).all fun c => IntKind.u8.wrap (bits .xor .u32 (bits .xor .u32 (wide (c : Int)) (wide (c : Int) / 256)) 99) == ((spB c : Nat) : Int)) = true := by kernel_rfl
  exact eq_of_beq (all256 this c h)
set_option maxHeartbeats 2000000 in
set_option maxRecDepth 100000 in
theorem spread_any (c : Nat) (h : c < 256) (w : World) : Calls Try.prog 72 #[.int .u8 (c : Int)] w fun e w' => e = .returned (.int .u8 (spB c : Nat)) ∧ w' = w := by
  have HD := hide (spread_int c h)
  unfold wide at HD
  go_enter Try.func72, Try.ntmps72
  go_wp2
  go_ret
  exact ⟨ret_int HD.out, rfl⟩
/-- where the loop stands -/
def PwL (w : World) (vp vi : Value) (wr : World) : Prop := ∃ i : Nat, i ≤ 256 ∧ vp = .int .u8 (pwN i : Nat) ∧ vi = .int .i64 (i : Int) ∧ Lies .u8 66 wr w.heap.size (zA 256) ∧ Lies .u8 66 wr (w.heap.size + 1) (upd pwN (zA 256) i) ∧ Below w.heap.size w wr
set_option maxHeartbeats 4000000 in
set_option maxRecDepth 100000 in
theorem powers_any (w : World) : Calls Try.prog 73 #[] w fun e w' => e = .returned (.agg (arr .u8 powT)) ∧ Below w.heap.size w w' := by
  have hz := zero256
  have L0 := (Lies.new .u8 66 w (zA 256)).alloc (.cells (arr .u8 (zA 256)) 66)
  have L1 := Lies.new .u8 66 (w.alloc (.cells (arr .u8 (zA 256)) 66)) (zA 256)
  have hb := keep_trans (keep_alloc w (.cells (arr .u8 (zA 256)) 66)) (keep_alloc _ (.cells (arr .u8 (zA 256)) 66))
  simp only [World.size_alloc, Nat.add_assoc, Nat.reduceAdd] at L1
  go_enter Try.func73, Try.ntmps73
  go_wp2
  generalize (w.alloc (.cells (arr .u8 (zA 256)) 66)).alloc (.cells (arr .u8 (zA 256)) 66) = x1 at *
  clear hz
  go_loopw [2, 4] (fun vp vi wr => PwL w vp vi wr) (fun _ vi _ => 256 - (intOf vi).toNat)
  case atStart => exact ⟨0, by decide, rfl, rfl, L0, L1, hb⟩
  case round =>
    obtain ⟨i, hi, rfl, rfl, h0, h1, hbr⟩ := hrel
    clear L0 L1 hb
    by_cases hlt : i < 256
    · have hli : (i : Int) < 256 := by omega
      have hp := pw_lt i
      have hnx := pw_next hlt
      have ell : (upd pwN (zA 256) i).length = 256 := by rw [upd_len, zA_len]
      have hst : Lies .u8 66 (wr.setCell ⟨w.heap.size + 1, i, none⟩ (.int .u8 (pwN i : Nat))) (w.heap.size + 1) (upd pwN (zA 256) (i + 1)) := h1.set i (pwN i)
      have a1 := h1.cell (i := i) (by rw [ell]; exact hlt)
      have a2 := h1.frozen i
      have HS := hide hst
      have HL := hide ell
      clear hst ell
      have hdb := fun y => dbl_any (pwN i) (by omega) y
      rw [dbl_byte hp] at hdb
      generalize pwN i = p at *
      have xl := xt_lt hp
      generalize xt p = q at *
      have s_q : IntKind.u8.wrap (q : Int) = (q : Int) := by rw [IntKind.wrap_u8]; omega
      have m_q : (q : Int) % 256 = (q : Int) := by omega
      have fx := u8_xor_nat p q hp xl
      have HN := hide hnx
      clear hnx
      go_wp2_with fail
      refine (hdb _).mono ?_
      rintro e y ⟨rfl, hy⟩
      obtain rfl := hy.symm
      go_wp2
      have bA : But (w.heap.size + 1) wr (wr.setCell ⟨w.heap.size + 1, i, none⟩ (.int .u8 (p : Int))) := (But.refl _ _).setCell i _
      exact ⟨⟨i + 1, by omega, by rw [HN.out], by go_num, h0.but bA (by omega), HS.out, hbr.trans (bA.below (by omega) hbr.size)⟩, by simp [intOf]; omega⟩
    · obtain rfl : i = 256 := by omega
      rw [pw_all] at h1
      have v1 := lies_rangeA h1
      go_wp2_with (first
        | (refine wpList_load_mid rfl 66 _ (by rfl) (w.heap.size + 1) 0 (by rfl) (vals .u8 powT) (.array 256 5) v1 (by kernel_rfl) rfl (by kernel_rfl) ?_)
        | (refine wpList_store_row rfl 66 _ _ (by rfl) w.heap.size (arr .u8 powT) (by rfl) (by rfl) 66 _ h0 (by kernel_rfl) (by kernel_rfl) (arr_one _ _) ?_)
        | fail)
      have bA : But w.heap.size wr (wr.setRow w.heap.size (arr .u8 powT)) := (But.refl _ _).setRow _
      have k0 : Lies .u8 66 (wr.setRow w.heap.size (arr .u8 powT)) w.heap.size powT := h0.row
      have v0 := run_loadVar_row (P := Try.prog) (wr.setRow w.heap.size (arr .u8 powT)) w.heap.size _ 66 _ _ _ k0 Try.underlying66 rfl (by kernel_rfl)
      refine bodyPost_ret (v := .agg (arr .u8 powT)) ?_ rfl ⟨rfl, hbr.trans (bA.below (by omega) hbr.size)⟩
      simp [results, Try.results73, asAddr, Act.put, v0]
/-- an array's element, by a number of whatever kind -/
theorem index_arrK {P : Program} (t e : TypeId) (n : Nat) (k q : IntKind) (l : List Nat) (hu : P.underlying t = some (.array n e)) (he : P.underlying e = some (.int k)) (hs : (P.info? e).map (·.size) = some 1) (hn : l.length = n) (i : Nat) (hi : i < n) (w : World) :
    (Instr.index t (.agg (arr k l)) (.int q (i : Int))).run P w = .ok (.int k (el l i)) w := by
  cases hq : P.info? e with
  | none => simp [hq] at hs
  | some x =>
    have hx : x.size = 1 := by simpa [hq] using hs
    have ha := arr_get k l i (by omega)
    have hagg : (isAgg e).run P w = .ok false w := by
      unfold isAgg
      rw [Sem.run_bind, run_underlying he w]; rfl
    simp [Instr.index, asIntOf, Sem.run_bind, run_underlying hu w, sizeOf, typeInfo, hq, hx, part, hagg, ha, show (i : Int) < (n : Int) by omega]
    intro hh; omega
end Go.Proofs.Ytjnlkihhmenfnaa

/- The code's boxes, inverse, Box. -/
namespace Go.Proofs.Ytjnlkihhmenfnaa
open Go.RowKit
set_option linter.unusedVariables false
set_option linter.unusedSimpArgs false

/-- the boxes, so far -/
def bxN : Nat → List Nat
  | 0 => (zA 256).set 0 (spB 0)
  | i + 1 => (bxN i).set (pwN i) (spB (pwN (255 - i)))
theorem bxN_len : ∀ i, (bxN i).length = 256
  | 0 => by show ((zA 256).set 0 _).length = 256; rw [List.length_set, zA_len]
  | i + 1 => by show ((bxN i).set _ _).length = 256; rw [List.length_set, bxN_len i]
theorem bxN_all : bxN 256 = boxT := by kernel_rfl
theorem ix256 (l : List Nat) (hl : l.length = 256) (i : Nat) (hi : i < 256) (w : World) : (Instr.index 66 (.agg (arr .u8 l)) (.int .i64 (i : Int))).run Try.prog w = .ok (.int .u8 (el l i)) w := index_arr 66 5 256 .u8 l Try.underlying66 Try.underlying5 (by kernel_rfl) hl i hi w
/-- where the loop stands -/
def BoxL (w : World) (g : Nat) (vi : Value) (wr : World) : Prop := ∃ i : Nat, i ≤ 256 ∧ vi = .int .i64 (i : Int) ∧ Lies .u8 66 wr w.heap.size (zA 256) ∧ Lies .u8 66 wr (w.heap.size + 1) (bxN i) ∧ Lies .u8 66 wr g powT ∧ Below w.heap.size w wr
set_option maxHeartbeats 4000000 in
set_option maxRecDepth 100000 in
theorem boxes_any (w : World) : Calls Try.prog 52 #[] w fun e w' => e = .returned (.agg (arr .u8 boxT)) ∧ Below w.heap.size w w' := by
  have hz := zero256
  have L0 := (Lies.new .u8 66 w (zA 256)).alloc (.cells (arr .u8 (zA 256)) 66)
  have L1 := Lies.new .u8 66 (w.alloc (.cells (arr .u8 (zA 256)) 66)) (zA 256)
  have hb := keep_trans (keep_alloc w (.cells (arr .u8 (zA 256)) 66)) (keep_alloc _ (.cells (arr .u8 (zA 256)) 66))
  simp only [World.size_alloc, Nat.add_assoc, Nat.reduceAdd] at L1
  have hsp0 := fun y => spread_any 0 (by decide) y
  have a1 := L1.cell (i := 0) (by rw [zA_len]; decide)
  have a2 := L1.frozen 0
  have hst : Lies .u8 66 (((w.alloc (.cells (arr .u8 (zA 256)) 66)).alloc (.cells (arr .u8 (zA 256)) 66)).setCell ⟨w.heap.size + 1, 0, none⟩ (.int .u8 (spB 0 : Nat))) (w.heap.size + 1) (bxN 0) := L1.set 0 (spB 0)
  have HS := hide (And.intro L0 (And.intro hst hb))
  clear L0 L1 hst hb
  generalize spB 0 = s0 at *
  go_enter Try.func52, Try.ntmps52
  go_wp2_with fail
  refine (hsp0 _).mono ?_
  rintro e y ⟨rfl, hy⟩
  obtain rfl := hy.symm
  generalize (w.alloc (.cells (arr .u8 (zA 256)) 66)).alloc (.cells (arr .u8 (zA 256)) 66) = x0 at *
  go_wp2_with fail
  have hpw := powers_any (x0.setCell ⟨w.heap.size + 1, 0, none⟩ (.int .u8 (s0 : Nat)))
  refine hpw.mono ?_
  rintro e x1 ⟨rfl, hb1⟩
  have bA : But (w.heap.size + 1) x0 (x0.setCell ⟨w.heap.size + 1, 0, none⟩ (.int .u8 (s0 : Nat))) := (But.refl _ _).setCell 0 _
  have K0 : Lies .u8 66 x1 w.heap.size (zA 256) := (HS.out.1.but bA (by omega)).below hb1
  have K1 : Lies .u8 66 x1 (w.heap.size + 1) (bxN 0) := HS.out.2.1.below hb1
  have KB : Below w.heap.size w x1 := keep_trans (HS.out.2.2.trans (bA.below (by omega) HS.out.2.2.size)) hb1
  have KN := Lies.new .u8 66 x1 (zA 256)
  have ks := K1.lt
  clear a1 a2 hpw hb1 bA HS
  have HK := hide (And.intro K0 (And.intro K1 (And.intro KB ks)))
  clear K0 K1 KB ks
  go_wp2_with (first
    | (refine wpList_store_row rfl 66 _ _ (by rfl) x1.heap.size (arr .u8 powT) (by rfl) (by rfl) 66 _ KN (by kernel_rfl) (by kernel_rfl) (arr_one _ _) ?_)
    | (refine wpList_load_mid rfl 66 _ (by rfl) x1.heap.size 0 (by rfl) (vals .u8 powT) (.array 256 5) (lies_rangeA KN.row) (by kernel_rfl) rfl (by kernel_rfl) ?_)
    | fail)
  obtain ⟨K0, K1, KB, ks⟩ := HK.out
  have bN : But x1.heap.size (x1.alloc (.cells (arr .u8 (zA 256)) 66)) ((x1.alloc (.cells (arr .u8 (zA 256)) 66)).setRow x1.heap.size (arr .u8 powT)) := (But.refl _ _).setRow _
  have M0 := (K0.alloc (.cells (arr .u8 (zA 256)) 66)).but bN (by omega)
  have M1 := (K1.alloc (.cells (arr .u8 (zA 256)) 66)).but bN (by omega)
  have MP : Lies .u8 66 ((x1.alloc (.cells (arr .u8 (zA 256)) 66)).setRow x1.heap.size (arr .u8 powT)) x1.heap.size powT := KN.row
  have MB := keep_trans KB (keep_alloc x1 (.cells (arr .u8 (zA 256)) 66))
  have MB2 := MB.trans (bN.below (by omega) MB.size)
  clear K0 K1 KB KN HK MB bN
  have gH : w.heap.size + 1 < x1.heap.size := ks
  generalize hg : x1.heap.size = g at *
  generalize (x1.alloc (.cells (arr .u8 (zA 256)) 66)).setRow g (arr .u8 powT) = x2 at *
  clear hz hg ks
  show Code.wp _ _ _ _ _
  go_loopw [9] (fun vi wr => BoxL w g vi wr) (fun vi _ => 256 - (intOf vi).toNat)
  case atStart => exact ⟨0, by decide, rfl, M0, M1, MP, MB2⟩
  case round =>
    obtain ⟨i, hi, rfl, h0, h1, hp, hbr⟩ := hrel
    clear M0 M1 MP MB2
    by_cases hlt : i < 256
    · have hli : (i : Int) < 256 := by omega
      obtain ⟨j, hj⟩ : ∃ j : Nat, j = 255 - i := ⟨_, rfl⟩
      have e_j : (255 : Int) - (i : Int) = (j : Int) := by omega
      have s_j : IntKind.i64.wrap (j : Int) = (j : Int) := by rw [IntKind.wrap_i64]; omega
      have jl : j < 256 := by omega
      have jli : (j : Int) < 256 := by omega
      have hix := fun y => ix256 powT powT_len i hlt y
      have c1 := hp.cell (i := j) (by rw [powT_len]; exact jl)
      rw [pw_el hlt] at hix
      have hix2 : ∀ y, (Instr.index 66 (.agg (vals .u8 powT).toArray) (.int .i64 (i : Int))).run Try.prog y = .ok (.int .u8 (pwN i : Nat)) y := hix
      rw [pw_el jl] at c1
      have hc := pw_lt i
      have hd := pw_lt j
      have hsp := fun y => spread_any (pwN j) hd y
      have ell := bxN_len i
      have hst : Lies .u8 66 (wr.setCell ⟨w.heap.size + 1, pwN i, none⟩ (.int .u8 (spB (pwN j) : Nat))) (w.heap.size + 1) (bxN (i + 1)) := by
        have := h1.set (pwN i) (spB (pwN j))
        rw [hj] at this ⊢
        exact this
      have a1 := h1.cell (i := pwN i) (by rw [ell]; exact hc)
      have a2 := h1.frozen (pwN i)
      have HS := hide hst
      have HJ := hide hj
      clear hst hj ell
      generalize spB (pwN j) = s at *
      generalize pwN j = d at *
      generalize pwN i = c at *
      have ci : (c : Int) < 256 := by omega
      go_wp2_with fail
      refine (hsp _).mono ?_
      rintro e y ⟨rfl, hy⟩
      obtain rfl := hy.symm
      go_wp2
      have bA : But (w.heap.size + 1) wr (wr.setCell ⟨w.heap.size + 1, c, none⟩ (.int .u8 (s : Int))) := (But.refl _ _).setCell c _
      exact ⟨⟨i + 1, by omega, by go_num, h0.but bA (by omega), HS.out, hp.but bA (by omega), hbr.trans (bA.below (by omega) hbr.size)⟩, by simp [intOf]; omega⟩
    · obtain rfl : i = 256 := by omega
      rw [bxN_all] at h1
      have v1 := lies_rangeA h1
      go_wp2_with (first
        | (refine wpList_load_mid rfl 66 _ (by rfl) (w.heap.size + 1) 0 (by rfl) (vals .u8 boxT) (.array 256 5) v1 (by kernel_rfl) rfl (by kernel_rfl) ?_)
        | (refine wpList_store_row rfl 66 _ _ (by rfl) w.heap.size (arr .u8 boxT) (by rfl) (by rfl) 66 _ h0 (by kernel_rfl) (by kernel_rfl) (arr_one _ _) ?_)
        | fail)
      have bA : But w.heap.size wr (wr.setRow w.heap.size (arr .u8 boxT)) := (But.refl _ _).setRow _
      have k0 : Lies .u8 66 (wr.setRow w.heap.size (arr .u8 boxT)) w.heap.size boxT := h0.row
      have v0 := run_loadVar_row (P := Try.prog) (wr.setRow w.heap.size (arr .u8 boxT)) w.heap.size _ 66 _ _ _ k0 Try.underlying66 rfl (by rw [arr_size, boxT_len]; kernel_rfl)
      refine bodyPost_ret (v := .agg (arr .u8 boxT)) ?_ rfl ⟨rfl, hbr.trans (bA.below (by omega) hbr.size)⟩
      simp [results, Try.results52, asAddr, Act.put, v0]
/-- where the loop stands -/
def InvL (w : World) (vi : Value) (wr : World) : Prop := ∃ i : Nat, i ≤ 256 ∧ vi = .int .i64 (i : Int) ∧ Lies .u8 66 wr (w.heap.size + 1) (zA 256) ∧ Lies .u8 66 wr (w.heap.size + 2) (bkA i) ∧ Below w.heap.size w wr
set_option maxHeartbeats 4000000 in
set_option maxRecDepth 100000 in
theorem cinv_any (w : World) : Calls Try.prog 68 #[.agg (arr .u8 boxT)] w fun e w' => e = .returned (.agg (arr .u8 unT)) ∧ Below w.heap.size w w' := by
  have hz := zero256
  have A0 := lies_rangeA (((Lies.new .u8 66 w boxT).alloc (.cells (arr .u8 (zA 256)) 66)).alloc (.cells (arr .u8 (zA 256)) 66))
  have L0 := (Lies.new .u8 66 (w.alloc (.cells (arr .u8 boxT) 66)) (zA 256)).alloc (.cells (arr .u8 (zA 256)) 66)
  have L1 := Lies.new .u8 66 ((w.alloc (.cells (arr .u8 boxT) 66)).alloc (.cells (arr .u8 (zA 256)) 66)) (zA 256)
  have hb := keep_trans (keep_trans (keep_alloc w (.cells (arr .u8 boxT) 66)) (keep_alloc _ (.cells (arr .u8 (zA 256)) 66))) (keep_alloc _ (.cells (arr .u8 (zA 256)) 66))
  simp only [World.size_alloc, Nat.add_assoc, Nat.reduceAdd] at L0 L1
  have HK := hide (And.intro L0 (And.intro L1 hb))
  clear L0 L1 hb
  go_enter Try.func68, Try.ntmps68
  go_wp2_with (first
    | (refine wpList_load_mid rfl 66 _ (by rfl) w.heap.size 0 (by rfl) (vals .u8 boxT) (.array 256 5) A0 (by kernel_rfl) rfl (by rw [vals_length, boxT_len]; kernel_rfl) ?_)
    | fail)
  obtain ⟨L0, L1, hb⟩ := HK.out
  clear HK A0 hz
  generalize ((w.alloc (.cells (arr .u8 boxT) 66)).alloc (.cells (arr .u8 (zA 256)) 66)).alloc (.cells (arr .u8 (zA 256)) 66) = x1 at *
  go_loopw [7] (fun vi wr => InvL w vi wr) (fun vi _ => 256 - (intOf vi).toNat)
  case atStart => exact ⟨0, by decide, rfl, L0, L1, hb⟩
  case round =>
    obtain ⟨i, hi, rfl, h0, h1, hbr⟩ := hrel
    clear L0 L1 hb
    by_cases hlt : i < 256
    · have hli : (i : Int) < 256 := by omega
      have hix := fun y => ix256 boxT boxT_len i hlt y
      rw [boxT_el hlt] at hix
      have hix2 : ∀ y, (Instr.index 66 (.agg (vals .u8 boxT).toArray) (.int .i64 (i : Int))).run Try.prog y = .ok (.int .u8 (boxB i : Nat)) y := hix
      have hc := boxB_lt hlt
      have s_i : IntKind.u8.wrap (i : Int) = (i : Int) := by rw [IntKind.wrap_u8]; omega
      have ell := bkA_len i
      have hst : Lies .u8 66 (wr.setCell ⟨w.heap.size + 2, boxB i, none⟩ (.int .u8 (i : Int))) (w.heap.size + 2) (bkA (i + 1)) := h1.set (boxB i) i
      have a1 := h1.cell (i := boxB i) (by rw [ell]; exact hc)
      have a2 := h1.frozen (boxB i)
      have HS := hide hst
      clear hst ell
      generalize boxB i = c at *
      have ci : (c : Int) < 256 := by omega
      go_wp2
      have bA : But (w.heap.size + 2) wr (wr.setCell ⟨w.heap.size + 2, c, none⟩ (.int .u8 (i : Int))) := (But.refl _ _).setCell c _
      exact ⟨⟨i + 1, by omega, by go_num, h0.but bA (by omega), HS.out, hbr.trans (bA.below (by omega) hbr.size)⟩, by simp [intOf]; omega⟩
    · obtain rfl : i = 256 := by omega
      rw [bkA_all] at h1
      have v1 := lies_rangeA h1
      go_wp2_with (first
        | (refine wpList_load_mid rfl 66 _ (by rfl) (w.heap.size + 2) 0 (by rfl) (vals .u8 unT) (.array 256 5) v1 (by kernel_rfl) rfl (by rw [vals_length, unT_len]; kernel_rfl) ?_)
        | (refine wpList_store_row rfl 66 _ _ (by rfl) (w.heap.size + 1) (arr .u8 unT) (by rfl) (by rfl) 66 _ h0 (by rw [arr_size, unT_len]; kernel_rfl) (by rw [arr_size, arr_size, unT_len, zA_len]) (arr_one _ _) ?_)
        | fail)
      have bA : But (w.heap.size + 1) wr (wr.setRow (w.heap.size + 1) (arr .u8 unT)) := (But.refl _ _).setRow _
      have k0 : Lies .u8 66 (wr.setRow (w.heap.size + 1) (arr .u8 unT)) (w.heap.size + 1) unT := h0.row
      have v0 := run_loadVar_row (P := Try.prog) (wr.setRow (w.heap.size + 1) (arr .u8 unT)) (w.heap.size + 1) _ 66 _ _ _ k0 Try.underlying66 rfl (by rw [arr_size, unT_len]; kernel_rfl)
      refine bodyPost_ret (v := .agg (arr .u8 unT)) ?_ rfl ⟨rfl, hbr.trans (bA.below (by omega) hbr.size)⟩
      simp [results, Try.results68, asAddr, Act.put, v0]
end Go.Proofs.Ytjnlkihhmenfnaa
