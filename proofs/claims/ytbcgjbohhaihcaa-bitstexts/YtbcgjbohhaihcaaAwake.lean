/- Contract of apostillelaw01.awake. -/
import Derived.Test.YtbcgjbohhaihcaaPack
import Derived.Test.YtbcgjbohhaihcaaSame
namespace Go.Proofs.Ytbcgjbohhaihcaa
open Go.RowKit
set_option linter.unusedVariables false

theorem keep_trans {a b c : World} (h : Below a.heap.size a b) (k : Below b.heap.size b c) : Below a.heap.size a c := h.trans (k.mono h.size)
theorem keep_alloc (w : World) (o : Obj) : Below w.heap.size w (w.alloc o) := (Below.refl _ _).alloc (Nat.le_refl _) o

theorem lit_row (k : IntKind) (m : Nat) (w : World) (l : List Nat) (t : TypeId) (hu : Under m l) (hl : l.length ≤ maxLen) :
    Row k m (w.alloc (.cells (vals k l).toArray t)) (.slice (some ⟨w.heap.size, 0, none⟩) l.length l.length) l := by
  refine ⟨_, _, rfl, Nat.le_refl _, hl, fun _ => ⟨_, _, rfl, fun i hi => ?_⟩, hu⟩
  rw [World.cell?_alloc_at _ _ _ _ rfl]
  rw [Nat.zero_add, List.getElem?_toArray, vals_get k l i hi]

theorem rsame_b (va vb : Value) (l m : List Nat) (w : World) (ha : Row .u8 256 w va l) (hb : Row .u8 256 w vb m) :
    Calls Try.prog 9 #[va, vb] w fun e w' => e = .returned (.bool (decide (l = m))) ∧ Below w.heap.size w w' :=
  (rsame_any va vb l m w ha hb).mono fun _ _ ⟨he, n, hw⟩ => ⟨he, by rw [hw]; exact below_drewN (Below.refl _ _) n⟩

theorem rsame_true (va vb : Value) (l : List Nat) (w : World) (ha : Row .u8 256 w va l) (hb : Row .u8 256 w vb l) :
    Calls Try.prog 9 #[va, vb] w fun e w' => e = .returned (.bool true) ∧ Below w.heap.size w w' :=
  (rsame_b va vb l l w ha hb).mono fun _ _ ⟨he, hw⟩ => ⟨by rw [he]; simp, hw⟩

theorem rsameNums_true (va vb : Value) (l : List Nat) (w : World) (ha : Row .u32 4294967296 w va l) (hb : Row .u32 4294967296 w vb l) :
    Calls Try.prog 23 #[va, vb] w fun e w' => e = .returned (.bool true) ∧ Below w.heap.size w w' :=
  (rsameNums_any va vb l l w ha hb).mono fun _ _ ⟨he, n, hw⟩ => ⟨by rw [he]; simp, by rw [hw]; exact below_drewN (Below.refl _ _) n⟩

theorem dec_under {m : Nat} {l : List Nat} (h : l.all (fun x => decide (x < m)) = true) : Under m l := by
  intro x hx
  exact of_decide_eq_true (List.all_eq_true.1 h x hx)

theorem ex_dig : digS [165] 4 2 = [10, 5] := by decide
theorem ex_be : (leS 258 3).reverse = [0, 1, 2] := by decide
theorem ex_le : leS 258 3 = [2, 1, 0] := by decide
theorem ex_pack : packS [5, 10] 4 = [165] := by decide

theorem cast258 : ((258 : Nat) : Int) = 258 := rfl

theorem be_258 (w : World) : Calls Try.prog 10 #[.int .u64 258, .int .i64 3] w fun e w' => ∃ v, e = .returned v ∧ Row .u8 256 w' v [0, 1, 2] ∧ Below w.heap.size w w' := by
  have h := be_any 258 3 w (by decide) (by decide) (by decide)
  rw [cast258, ex_be] at h
  exact h.mono fun _ _ ⟨v, he, ho, hb⟩ => ⟨v, he, ho.row, hb⟩
theorem le_258 (w : World) : Calls Try.prog 12 #[.int .u64 258, .int .i64 3] w fun e w' => ∃ v, e = .returned v ∧ Row .u8 256 w' v [2, 1, 0] ∧ Below w.heap.size w w' := by
  have h := le_any 258 3 w (by decide) (by decide) (by decide)
  rw [cast258, ex_le] at h
  exact h.mono fun _ _ ⟨v, he, ho, hb⟩ => ⟨v, he, ho.row, hb⟩
theorem dig_165 (va : Value) (w : World) (ha : Row .u8 256 w va [165]) : Calls Try.prog 24 #[va, .int .i64 4, .int .i64 2] w fun e w' => ∃ v, e = .returned v ∧ Row .u32 4294967296 w' v [10, 5] ∧ Below w.heap.size w w' := by
  have h := dig_any va [165] 4 2 w ha (by decide) (by decide) (by decide)
  rw [ex_dig] at h
  exact h.mono fun _ _ ⟨v, he, ho, hb⟩ => ⟨v, he, ho.row, hb⟩
theorem pack_510 (va : Value) (w : World) (ha : Row .u32 4294967296 w va [5, 10]) : Calls Try.prog 26 #[va, .int .i64 4] w fun e w' => ∃ v, e = .returned v ∧ Row .u8 256 w' v [165] ∧ Below w.heap.size w w' := by
  have h := pack_any va [5, 10] 4 w ha (by decide)
  rw [ex_pack] at h
  exact h.mono fun _ _ ⟨v, he, ho, hb⟩ => ⟨v, he, ho.row, hb⟩

theorem lit165 (w : World) : Row .u8 256 (w.alloc (.cells #[.int .u8 165] 5)) (.slice (some ⟨w.heap.size, 0, none⟩) 1 1) [165] :=
  lit_row .u8 256 w [165] 5 (dec_under (by decide)) (by decide)
theorem lit012 (w : World) : Row .u8 256 (w.alloc (.cells #[.int .u8 0, .int .u8 1, .int .u8 2] 5)) (.slice (some ⟨w.heap.size, 0, none⟩) 3 3) [0, 1, 2] :=
  lit_row .u8 256 w [0, 1, 2] 5 (dec_under (by decide)) (by decide)
theorem lit210 (w : World) : Row .u8 256 (w.alloc (.cells #[.int .u8 2, .int .u8 1, .int .u8 0] 5)) (.slice (some ⟨w.heap.size, 0, none⟩) 3 3) [2, 1, 0] :=
  lit_row .u8 256 w [2, 1, 0] 5 (dec_under (by decide)) (by decide)
theorem lit510 (w : World) : Row .u32 4294967296 (w.alloc (.cells #[.int .u32 5, .int .u32 10] 39)) (.slice (some ⟨w.heap.size, 0, none⟩) 2 2) [5, 10] :=
  lit_row .u32 4294967296 w [5, 10] 39 (dec_under (by decide)) (by decide)

set_option maxHeartbeats 1000000 in
theorem awake_any (w : World) : Calls Try.prog 8 #[] w fun e w' => e = .returned (.bool true) ∧ Below w.heap.size w w' := by
  go_enter Try.func8, Try.ntmps8
  go_wp2_with fail
  refine (dig_165 _ _ (lit165 w)).mono ?_
  rintro e w1 ⟨v, rfl, hd, hb1⟩
  have hb1 := keep_trans (keep_alloc w _) hb1
  go_wp2_with fail
  refine (be_258 _).mono ?_
  rintro e w2 ⟨v2, rfl, hr2, hb2⟩
  have hd := hd.below hb2
  have hb2 := keep_trans hb1 hb2
  clear hb1
  go_wp2_with fail
  refine (rsame_true _ _ _ _ (hr2.below (keep_alloc w2 _)) (lit012 w2)).mono ?_
  rintro e w3 ⟨rfl, hb3⟩
  have hd := hd.below (keep_trans (keep_alloc w2 _) hb3)
  have hb3 := keep_trans (keep_trans hb2 (keep_alloc w2 _)) hb3
  clear hb2 hr2
  go_wp2_with fail
  refine (le_258 _).mono ?_
  rintro e w4 ⟨v4, rfl, hr4, hb4⟩
  have hd := hd.below hb4
  have hb4 := keep_trans hb3 hb4
  clear hb3
  go_wp2_with fail
  refine (rsame_true _ _ _ _ (hr4.below (keep_alloc w4 _)) (lit210 w4)).mono ?_
  rintro e w5 ⟨rfl, hb5⟩
  have hd := hd.below (keep_trans (keep_alloc w4 _) hb5)
  have hb5 := keep_trans (keep_trans hb4 (keep_alloc w4 _)) hb5
  clear hb4 hr4
  obtain ⟨a, cap, rfl, hd1, hd2, hd3, hd4⟩ := hd
  obtain ⟨b, off, rfl, hc⟩ := hd3 (by decide)
  have c0 : w5.cell? ⟨b, off, none⟩ = some (.int .u32 10) := hc 0 (by decide)
  have c1 : w5.cell? ⟨b, off + 1, none⟩ = some (.int .u32 5) := hc 1 (by decide)
  clear hc hd3 hd4 hd1 hd2
  go_wp2_with fail
  refine (pack_510 _ _ (lit510 w5)).mono ?_
  rintro e w6 ⟨v6, rfl, hr6, hb6⟩
  have hb6 := keep_trans (keep_trans hb5 (keep_alloc w5 _)) hb6
  clear hb5 c0 c1
  go_wp2_with fail
  refine (rsame_true _ _ _ _ (hr6.below (keep_alloc w6 _)) (lit165 w6)).mono ?_
  rintro e w7 ⟨rfl, hb7⟩
  have hb7 := keep_trans (keep_trans hb6 (keep_alloc w6 _)) hb7
  go_wp2
  go_ret
  exact ⟨rfl, hb7⟩
end Go.Proofs.Ytbcgjbohhaihcaa
