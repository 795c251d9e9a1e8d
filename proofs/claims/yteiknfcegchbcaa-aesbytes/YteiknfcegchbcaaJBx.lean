/- The code's boxes, inverse, Box. -/
import Derived.Test.YteiknfcegchbcaaJTb
namespace Go.Proofs.Yteiknfcegchbcaa
open Go.RowKit
set_option linter.unusedVariables false
set_option linter.unusedSimpArgs false

/-- the boxes, so far -/
def bxN : Nat → List Nat
  | 0 => (zA 256).set 0 (spB 0)
  | i + 1 => (bxN i).set (pwN i) (spB (pwN (255 - i)))
theorem bxN_len : ∀ i, (bxN i).length = 256
  | 0 => by show ((zA 256).set 0 _).length = 256; rw [List.length_set, zA_len]
  | i + 1 => by show ((bxN i).set _ _).length = 256; rw [List.length_set, bxN_len i]
theorem bxN_all : bxN 256 = boxT := by kernel_rfl
theorem ix256 (l : List Nat) (hl : l.length = 256) (i : Nat) (hi : i < 256) (w : World) : (Instr.index 47 (.agg (arr .u8 l)) (.int .i64 (i : Int))).run Try.prog w = .ok (.int .u8 (el l i)) w := index_arr 47 5 256 .u8 l Try.underlying47 Try.underlying5 (by kernel_rfl) hl i hi w
/-- where the loop stands -/
def BoxL (w : World) (g : Nat) (vi : Value) (wr : World) : Prop := ∃ i : Nat, i ≤ 256 ∧ vi = .int .i64 (i : Int) ∧ Lies .u8 47 wr w.heap.size (zA 256) ∧ Lies .u8 47 wr (w.heap.size + 1) (bxN i) ∧ Lies .u8 47 wr g powT ∧ Below w.heap.size w wr
set_option maxHeartbeats 4000000 in
set_option maxRecDepth 100000 in
theorem boxes_any (w : World) : Calls Try.prog 39 #[] w fun e w' => e = .returned (.agg (arr .u8 boxT)) ∧ Below w.heap.size w w' := by
  have hz := zero256
  have L0 := (Lies.new .u8 47 w (zA 256)).alloc (.cells (arr .u8 (zA 256)) 47)
  have L1 := Lies.new .u8 47 (w.alloc (.cells (arr .u8 (zA 256)) 47)) (zA 256)
  have hb := keep_trans (keep_alloc w (.cells (arr .u8 (zA 256)) 47)) (keep_alloc _ (.cells (arr .u8 (zA 256)) 47))
  simp only [World.size_alloc, Nat.add_assoc, Nat.reduceAdd] at L1
  have hsp0 := fun y => spread_any 0 (by decide) y
  have a1 := L1.cell (i := 0) (by rw [zA_len]; decide)
  have a2 := L1.frozen 0
  have hst : Lies .u8 47 (((w.alloc (.cells (arr .u8 (zA 256)) 47)).alloc (.cells (arr .u8 (zA 256)) 47)).setCell ⟨w.heap.size + 1, 0, none⟩ (.int .u8 (spB 0 : Nat))) (w.heap.size + 1) (bxN 0) := L1.set 0 (spB 0)
  have HS := hide (And.intro L0 (And.intro hst hb))
  clear L0 L1 hst hb
  generalize spB 0 = s0 at *
  go_enter Try.func39, Try.ntmps39
  go_wp2_with fail
  refine (hsp0 _).mono ?_
  rintro e y ⟨rfl, hy⟩
  obtain rfl := hy.symm
  generalize (w.alloc (.cells (arr .u8 (zA 256)) 47)).alloc (.cells (arr .u8 (zA 256)) 47) = x0 at *
  go_wp2_with fail
  have hpw := powers_any (x0.setCell ⟨w.heap.size + 1, 0, none⟩ (.int .u8 (s0 : Nat)))
  refine hpw.mono ?_
  rintro e x1 ⟨rfl, hb1⟩
  have bA : But (w.heap.size + 1) x0 (x0.setCell ⟨w.heap.size + 1, 0, none⟩ (.int .u8 (s0 : Nat))) := (But.refl _ _).setCell 0 _
  have K0 : Lies .u8 47 x1 w.heap.size (zA 256) := (HS.out.1.but bA (by omega)).below hb1
  have K1 : Lies .u8 47 x1 (w.heap.size + 1) (bxN 0) := HS.out.2.1.below hb1
  have KB : Below w.heap.size w x1 := keep_trans (HS.out.2.2.trans (bA.below (by omega) HS.out.2.2.size)) hb1
  have KN := Lies.new .u8 47 x1 (zA 256)
  have ks := K1.lt
  clear a1 a2 hpw hb1 bA HS
  have HK := hide (And.intro K0 (And.intro K1 (And.intro KB ks)))
  clear K0 K1 KB ks
  go_wp2_with (first
    | (refine wpList_store_row rfl 47 _ _ (by rfl) x1.heap.size (arr .u8 powT) (by rfl) (by rfl) 47 _ KN (by kernel_rfl) (by kernel_rfl) (arr_one _ _) ?_)
    | (refine wpList_load_mid rfl 47 _ (by rfl) x1.heap.size 0 (by rfl) (vals .u8 powT) (.array 256 5) (lies_rangeA KN.row) (by kernel_rfl) rfl (by kernel_rfl) ?_)
    | fail)
  obtain ⟨K0, K1, KB, ks⟩ := HK.out
  have bN : But x1.heap.size (x1.alloc (.cells (arr .u8 (zA 256)) 47)) ((x1.alloc (.cells (arr .u8 (zA 256)) 47)).setRow x1.heap.size (arr .u8 powT)) := (But.refl _ _).setRow _
  have M0 := (K0.alloc (.cells (arr .u8 (zA 256)) 47)).but bN (by omega)
  have M1 := (K1.alloc (.cells (arr .u8 (zA 256)) 47)).but bN (by omega)
  have MP : Lies .u8 47 ((x1.alloc (.cells (arr .u8 (zA 256)) 47)).setRow x1.heap.size (arr .u8 powT)) x1.heap.size powT := KN.row
  have MB := keep_trans KB (keep_alloc x1 (.cells (arr .u8 (zA 256)) 47))
  have MB2 := MB.trans (bN.below (by omega) MB.size)
  clear K0 K1 KB KN HK MB bN
  have gH : w.heap.size + 1 < x1.heap.size := ks
  generalize hg : x1.heap.size = g at *
  generalize (x1.alloc (.cells (arr .u8 (zA 256)) 47)).setRow g (arr .u8 powT) = x2 at *
  clear hz hg ks
  show Code.wp _ _ _ _ _
  go_loopw [9] (fun vi wr => BoxL w g vi wr) (fun vi _ => 256 - (intOf vi).toNat)
  case atStart => exact ⟨0, by decide, rfl, M0, M1, MP, MB2⟩
  case round =>
    obtain ⟨i, hi, rfl, h0, h1, hp, hbr⟩ := hrel
    clear M0 M1 MP MB2
    by_cases hlt : i < 256
    · have hli : (i : Int) < 256 := by omega
      obtain ⟨j, hj⟩ : ∃ j : Nat, j = 255 - i := ⟨_, rfl⟩
      have e_j : (255 : Int) - (i : Int) = (j : Int) := by omega
      have s_j : IntKind.i64.wrap (j : Int) = (j : Int) := by rw [IntKind.wrap_i64]; omega
      have jl : j < 256 := by omega
      have jli : (j : Int) < 256 := by omega
      have hix := fun y => ix256 powT powT_len i hlt y
      have c1 := hp.cell (i := j) (by rw [powT_len]; exact jl)
      rw [pw_el hlt] at hix
      have hix2 : ∀ y, (Instr.index 47 (.agg (vals .u8 powT).toArray) (.int .i64 (i : Int))).run Try.prog y = .ok (.int .u8 (pwN i : Nat)) y := hix
      rw [pw_el jl] at c1
      have hc := pw_lt i
      have hd := pw_lt j
      have hsp := fun y => spread_any (pwN j) hd y
      have ell := bxN_len i
      have hst : Lies .u8 47 (wr.setCell ⟨w.heap.size + 1, pwN i, none⟩ (.int .u8 (spB (pwN j) : Nat))) (w.heap.size + 1) (bxN (i + 1)) := by
        have := h1.set (pwN i) (spB (pwN j))
        rw [hj] at this ⊢
        exact this
      have a1 := h1.cell (i := pwN i) (by rw [ell]; exact hc)
      have a2 := h1.frozen (pwN i)
      have HS := hide hst
      have HJ := hide hj
      clear hst hj ell
      generalize spB (pwN j) = s at *
      generalize pwN j = d at *
      generalize pwN i = c at *
      have ci : (c : Int) < 256 := by omega
      go_wp2_with fail
      refine (hsp _).mono ?_
      rintro e y ⟨rfl, hy⟩
      obtain rfl := hy.symm
      go_wp2
      have bA : But (w.heap.size + 1) wr (wr.setCell ⟨w.heap.size + 1, c, none⟩ (.int .u8 (s : Int))) := (But.refl _ _).setCell c _
      exact ⟨⟨i + 1, by omega, by go_num, h0.but bA (by omega), HS.out, hp.but bA (by omega), hbr.trans (bA.below (by omega) hbr.size)⟩, by simp [intOf]; omega⟩
    · obtain rfl : i = 256 := by omega
      rw [bxN_all] at h1
      have v1 := lies_rangeA h1
      go_wp2_with (first
        | (refine wpList_load_mid rfl 47 _ (by rfl) (w.heap.size + 1) 0 (by rfl) (vals .u8 boxT) (.array 256 5) v1 (by kernel_rfl) rfl (by kernel_rfl) ?_)
        | (refine wpList_store_row rfl 47 _ _ (by rfl) w.heap.size (arr .u8 boxT) (by rfl) (by rfl) 47 _ h0 (by kernel_rfl) (by kernel_rfl) (arr_one _ _) ?_)
        | fail)
      have bA : But w.heap.size wr (wr.setRow w.heap.size (arr .u8 boxT)) := (But.refl _ _).setRow _
      have k0 : Lies .u8 47 (wr.setRow w.heap.size (arr .u8 boxT)) w.heap.size boxT := h0.row
      have v0 := run_loadVar_row (P := Try.prog) (wr.setRow w.heap.size (arr .u8 boxT)) w.heap.size _ 47 _ _ _ k0 Try.underlying47 rfl (by rw [arr_size, boxT_len]; kernel_rfl)
      refine bodyPost_ret (v := .agg (arr .u8 boxT)) ?_ rfl ⟨rfl, hbr.trans (bA.below (by omega) hbr.size)⟩
      simp [results, Try.results39, asAddr, Act.put, v0]
set_option maxHeartbeats 4000000 in
set_option maxRecDepth 100000 in
theorem cbox_any (c : Nat) (hc : c < 256) (w : World) : Calls Try.prog 17 #[.int .u8 (c : Int)] w fun e w' => e = .returned (.int .u8 (boxB c : Nat)) ∧ Below w.heap.size w w' := by
  have hbx := boxes_any w
  have hix : ∀ y, (Instr.index 47 (.agg (arr .u8 boxT)) (.int .u8 (c : Int))).run Try.prog y = .ok (.int .u8 (boxB c : Nat)) y := fun y => by
    have := index_arrK 47 5 256 .u8 .u8 boxT Try.underlying47 Try.underlying5 (by kernel_rfl) boxT_len c hc y
    rw [boxT_el hc] at this
    exact this
  generalize boxB c = M at *
  generalize boxT = B at *
  go_enter Try.func17, Try.ntmps17
  go_wp2_with fail
  refine hbx.mono ?_
  rintro e x1 ⟨rfl, hb1⟩
  go_wp2
  go_ret
  exact ⟨rfl, hb1⟩
/-- where the loop stands -/
def InvL (w : World) (vi : Value) (wr : World) : Prop := ∃ i : Nat, i ≤ 256 ∧ vi = .int .i64 (i : Int) ∧ Lies .u8 47 wr (w.heap.size + 1) (zA 256) ∧ Lies .u8 47 wr (w.heap.size + 2) (bkA i) ∧ Below w.heap.size w wr
set_option maxHeartbeats 4000000 in
set_option maxRecDepth 100000 in
theorem cinv_any (w : World) : Calls Try.prog 51 #[.agg (arr .u8 boxT)] w fun e w' => e = .returned (.agg (arr .u8 unT)) ∧ Below w.heap.size w w' := by
  have hz := zero256
  have A0 := lies_rangeA (((Lies.new .u8 47 w boxT).alloc (.cells (arr .u8 (zA 256)) 47)).alloc (.cells (arr .u8 (zA 256)) 47))
  have L0 := (Lies.new .u8 47 (w.alloc (.cells (arr .u8 boxT) 47)) (zA 256)).alloc (.cells (arr .u8 (zA 256)) 47)
  have L1 := Lies.new .u8 47 ((w.alloc (.cells (arr .u8 boxT) 47)).alloc (.cells (arr .u8 (zA 256)) 47)) (zA 256)
  have hb := keep_trans (keep_trans (keep_alloc w (.cells (arr .u8 boxT) 47)) (keep_alloc _ (.cells (arr .u8 (zA 256)) 47))) (keep_alloc _ (.cells (arr .u8 (zA 256)) 47))
  simp only [World.size_alloc, Nat.add_assoc, Nat.reduceAdd] at L0 L1
  have HK := hide (And.intro L0 (And.intro L1 hb))
  clear L0 L1 hb
  go_enter Try.func51, Try.ntmps51
  go_wp2_with (first
    | (refine wpList_load_mid rfl 47 _ (by rfl) w.heap.size 0 (by rfl) (vals .u8 boxT) (.array 256 5) A0 (by kernel_rfl) rfl (by rw [vals_length, boxT_len]; kernel_rfl) ?_)
    | fail)
  obtain ⟨L0, L1, hb⟩ := HK.out
  clear HK A0 hz
  generalize ((w.alloc (.cells (arr .u8 boxT) 47)).alloc (.cells (arr .u8 (zA 256)) 47)).alloc (.cells (arr .u8 (zA 256)) 47) = x1 at *
  go_loopw [7] (fun vi wr => InvL w vi wr) (fun vi _ => 256 - (intOf vi).toNat)
  case atStart => exact ⟨0, by decide, rfl, L0, L1, hb⟩
  case round =>
    obtain ⟨i, hi, rfl, h0, h1, hbr⟩ := hrel
    clear L0 L1 hb
    by_cases hlt : i < 256
    · have hli : (i : Int) < 256 := by omega
      have hix := fun y => ix256 boxT boxT_len i hlt y
      rw [boxT_el hlt] at hix
      have hix2 : ∀ y, (Instr.index 47 (.agg (vals .u8 boxT).toArray) (.int .i64 (i : Int))).run Try.prog y = .ok (.int .u8 (boxB i : Nat)) y := hix
      have hc := boxB_lt hlt
      have s_i : IntKind.u8.wrap (i : Int) = (i : Int) := by rw [IntKind.wrap_u8]; omega
      have ell := bkA_len i
      have hst : Lies .u8 47 (wr.setCell ⟨w.heap.size + 2, boxB i, none⟩ (.int .u8 (i : Int))) (w.heap.size + 2) (bkA (i + 1)) := h1.set (boxB i) i
      have a1 := h1.cell (i := boxB i) (by rw [ell]; exact hc)
      have a2 := h1.frozen (boxB i)
      have HS := hide hst
      clear hst ell
      generalize boxB i = c at *
      have ci : (c : Int) < 256 := by omega
      go_wp2
      have bA : But (w.heap.size + 2) wr (wr.setCell ⟨w.heap.size + 2, c, none⟩ (.int .u8 (i : Int))) := (But.refl _ _).setCell c _
      exact ⟨⟨i + 1, by omega, by go_num, h0.but bA (by omega), HS.out, hbr.trans (bA.below (by omega) hbr.size)⟩, by simp [intOf]; omega⟩
    · obtain rfl : i = 256 := by omega
      rw [bkA_all] at h1
      have v1 := lies_rangeA h1
      go_wp2_with (first
        | (refine wpList_load_mid rfl 47 _ (by rfl) (w.heap.size + 2) 0 (by rfl) (vals .u8 unT) (.array 256 5) v1 (by kernel_rfl) rfl (by rw [vals_length, unT_len]; kernel_rfl) ?_)
        | (refine wpList_store_row rfl 47 _ _ (by rfl) (w.heap.size + 1) (arr .u8 unT) (by rfl) (by rfl) 47 _ h0 (by rw [arr_size, unT_len]; kernel_rfl) (by rw [arr_size, arr_size, unT_len, zA_len]) (arr_one _ _) ?_)
        | fail)
      have bA : But (w.heap.size + 1) wr (wr.setRow (w.heap.size + 1) (arr .u8 unT)) := (But.refl _ _).setRow _
      have k0 : Lies .u8 47 (wr.setRow (w.heap.size + 1) (arr .u8 unT)) (w.heap.size + 1) unT := h0.row
      have v0 := run_loadVar_row (P := Try.prog) (wr.setRow (w.heap.size + 1) (arr .u8 unT)) (w.heap.size + 1) _ 47 _ _ _ k0 Try.underlying47 rfl (by rw [arr_size, unT_len]; kernel_rfl)
      refine bodyPost_ret (v := .agg (arr .u8 unT)) ?_ rfl ⟨rfl, hbr.trans (bA.below (by omega) hbr.size)⟩
      simp [results, Try.results51, asAddr, Act.put, v0]
end Go.Proofs.Yteiknfcegchbcaa
