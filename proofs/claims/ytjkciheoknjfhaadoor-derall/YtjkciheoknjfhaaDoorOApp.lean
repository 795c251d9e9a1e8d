/- Contract of oid.appendNumber. -/
import Derived.Test.YtjkciheoknjfhaaDoorDTag
namespace Go.Proofs.YtjkciheoknjfhaaDoor
open Go.RowKit
set_option linter.unusedVariables false

set_option maxHeartbeats 1000000 in
theorem appn_any (v : Value) (a : List Nat) (n : Nat) (B : Nat) (w : World) (hB : B ≤ w.heap.size) (h : Own 5 .u8 256 w B v a) (hn : n < 4294967296) (ha : a.length ≤ 1000000) :
    Calls Tryd.prog 83 #[v, .int .u32 n] w fun e w' => ∃ v', e = .returned v' ∧ Own 5 .u8 256 w' B v' (a ++ grp n) ∧ Below B w w' := by
  obtain ⟨i0, hi, hz0, hz1, hz2⟩ := info_parts Tryd.info5
  have hrow := h.row
  obtain ⟨ad, cap, rfl, h1, h2, h3, hua⟩ := hrow
  obtain ⟨how, _⟩ := h
  clear h3
  unfold maxLen at h2
  have hlen := grp_len hn
  have hgu := grp_under n
  go_enter Tryd.func83, Tryd.ntmps83
  go_wp2_with (first | (at_builtin; refine wpList_append_own _ rfl _ _ 22 rfl B 5 i0 (.int .u8 0) 1 1 Tryd.underlying22 hi hz0 hz1 hz2 rfl (by decide) _ _ _ rfl (how.alloc _) ⟨w.heap.size, 0, none⟩ 1 1 (vals .u8 [n % 128]) rfl rfl (app_cells w .u8 (n % 128) _ _ (by simp)) (vals_one _ _) (by unfold maxLen; omega) (by omega) (by simp; omega) ?_; intro v1 w1 how1 hgrow1 _) | go_in)
  have hb1 := below_append (Below.refl B w) hB how _ hgrow1
  clear hgrow1
  obtain ⟨g1, cap1, rfl, _⟩ := row_form how1 (by omega)
  rw [← vals_append] at how1
  go_wp2
  have e1 : (n : Int) / 128 = ((n / 128 : Nat) : Int) := nat_quo n 128
  have e2 : (n : Int) % 128 = ((n % 128 : Nat) : Int) := nat_rem n 128
  rw [e1, e2]
  clear e1 e2
  have hg : hib (n / 128) ++ [n % 128] = grp n := rfl
  have hq0 : n / 128 < 4294967296 := by omega
  generalize n / 128 = q0 at *
  generalize n % 128 = r0 at *
  go_loopw [0, 1] (fun v u wr => ∃ (q g cap : Nat) (acc : List Nat), u = .int .u32 q ∧ q < 4294967296 ∧ 0 < acc.length ∧ acc.length ≤ 5 ∧ v = .slice (some ⟨g, 0, none⟩) (a.length + acc.length) cap ∧ Hid (hib q ++ acc.reverse = grp n) ∧ wr.ownsRow B 5 1 v (a.length + acc.length) (vals .u8 (a ++ acc)) ∧ Below B w wr) (fun _ u _ => (intOf u).toNat)
  case atStart => exact ⟨q0, g1, cap1, [r0], rfl, hq0, by simp, by simp, rfl, hide hg, how1, hb1⟩
  case round =>
    obtain ⟨q, g, cap', acc, rfl, hq, hal, hal5, rfl, HG, hw, hbr⟩ := hrel
    have hsz := hbr.size
    by_cases h0 : 0 < q
    · have e128 : bits .or .u8 128 ((q : Int) % 128) = ((128 + q % 128 : Nat) : Int) := or128 q
      go_wp2_with (first | (at_builtin; refine wpList_append_own _ rfl _ _ 22 rfl B 5 i0 (.int .u8 0) 1 1 Tryd.underlying22 hi hz0 hz1 hz2 rfl (by decide) _ _ _ rfl (hw.alloc _) ⟨wr.heap.size, 0, none⟩ 1 1 (vals .u8 [128 + q % 128]) rfl rfl (app_cells wr .u8 (128 + q % 128) _ _ (by first | exact e128 | simp)) (vals_one _ _) (by unfold maxLen; omega) (by omega) (by simp; omega) ?_; intro v3 w3 how3 hgrow3 _) | go_in)
      have hb3 := below_append hbr (by omega) hw _ hgrow3
      obtain ⟨g3, cap3, rfl, _⟩ := row_form how3 (by omega)
      rw [← vals_append, List.append_assoc] at how3
      have HG2 : Hid (hib (q / 128) ++ (acc ++ [128 + q % 128]).reverse = grp n) := by
        have := HG.out
        rw [hib_step h0, List.append_assoc] at this
        unfold Hid
        rw [List.reverse_append]
        exact this
      have hl5 : (acc ++ [128 + q % 128]).length ≤ 5 := by
        have := congrArg List.length HG2.out
        rw [List.length_append, List.length_reverse] at this
        omega
      go_wp2
      go_roundw
      case rel => exact ⟨q / 128, g3, cap3, acc ++ [128 + q % 128], by simp, by omega, by simp, hl5, by simp [Nat.add_assoc], HG2, by rw [List.length_append, ← Nat.add_assoc]; exact how3, hb3⟩
      case measure => simp [intOf]; omega
    · have hq0 : q = 0 := by omega
      subst hq0
      have hG := HG.out
      rw [hib_zero, List.nil_append] at hG
      have hacu : Under 256 acc := by intro x hx; exact hgu x (by rw [← hG]; simpa using hx)
      obtain ⟨gg, cc, hee, hb0, hnc, hcm⟩ := row_form hw (by omega)
      simp only [Value.slice.injEq, Option.some.injEq, Addr.mk.injEq, and_true, true_and] at hee
      obtain ⟨rfl, rfl⟩ := hee
      unfold maxLen at hcm
      have HL : Hid ((a ++ acc).length = a.length + acc.length) := hide List.length_append
      have hcall := revAt_any g cap' a acc B wr hua ⟨by rw [HL.out]; exact hw, hua.append hacu⟩
      rw [HL.out, hG] at hcall
      clear HG hG
      go_wp2_with (first | (go_at_call 88; refine hcall.mono ?_; rintro e w4 ⟨rfl, ho4, hb4⟩) | go_in)
      go_ret
      exact ⟨_, rfl, ho4, hbr.trans hb4⟩
end Go.Proofs.YtjkciheoknjfhaaDoor
