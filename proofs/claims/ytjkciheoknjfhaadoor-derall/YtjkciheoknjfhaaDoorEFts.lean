/- Which bytes fit a tag: der's fitsOid, fitsTime, fits; inOrder. -/
import Derived.Test.YtjkciheoknjfhaaDoorEFit
namespace Go.Proofs.YtjkciheoknjfhaaDoor
open Go.RowKit
set_option linter.unusedVariables false

set_option maxHeartbeats 1000000 in
theorem fitsOid_any (v : Value) (b : List Nat) (w : World) (h : Row .u8 256 w v b) (hl : b.length ≤ 60000) :
    Calls Tryd.prog 58 #[v] w fun e w' => e = .returned (.bool (parR b).isSome) ∧ Below w.heap.size w w' := by
  have h' := h
  have HE := hide (parR_eq h.under)
  obtain ⟨a, cap, rfl, g1, g2, g3, g4⟩ := h
  have hli : ¬ (65536 : Int) < (b.length : Int) := by omega
  have hln : ¬ 65536 < b.length := by omega
  rw [HE.out]
  go_enter Tryd.func58, Tryd.ntmps58
  go_wp2_with fail
  refine (parse_any _ b w h').mono ?_
  rintro e w1 ⟨⟨u, rfl, _⟩, hb1⟩
  cases hp : (parO b).isSome with
  | true =>
    have HP := hide hp
    go_wp2_with fail
    go_ret
    exact ⟨ret_bool HP.out.symm, hb1⟩
  | false =>
    have HP := hide hp
    go_wp2_with fail
    go_ret
    exact ⟨ret_bool HP.out.symm, hb1⟩

set_option maxHeartbeats 1000000 in
theorem fitsTime_any (v : Value) (b : List Nat) (w : World) (h : Row .u8 256 w v b) (hl : b.length ≤ 60000) :
    Calls Tryd.prog 60 #[v] w fun e w' => (∃ r : Bool, e = .returned (.bool r) ∧ (TimeP (bts b) ↔ r = true)) ∧ Below w.heap.size w w' := by
  have v1 := conv_row h
  have hbl : (bts b).length ≤ 1000000 := by unfold bts; rw [List.length_map]; omega
  obtain ⟨a, cap, rfl, g1, g2, g3, g4⟩ := h
  have hli : ¬ (65536 : Int) < (b.length : Int) := by omega
  have hln : ¬ 65536 < b.length := by omega
  go_enter Tryd.func60, Tryd.ntmps60
  go_wp2_with fail
  refine (sread_any (bts b) w hbl).mono ?_
  rintro e w1 ⟨⟨z, c, rfl, hT⟩, hb1⟩
  have HR := hide (read_time hT)
  clear hT
  go_wp2_with fail
  go_ret
  exact ⟨⟨_, rfl, HR.out⟩, hb1⟩

set_option maxHeartbeats 2000000 in
theorem fits_any (FB : Int → List Nat → Bool) (hFB : FBok FB) (t : Int) (v : Value) (b : List Nat) (w : World) (h : Row .u8 256 w v b) (hT : UTabs w) (hl : b.length ≤ 60000) :
    Calls Tryd.prog 45 #[.int .i64 t, v] w fun e w' => e = .returned (.bool (plainB t && FB t b)) ∧ Below w.heap.size w w' := by
  have h' := h
  obtain ⟨a, cap, rfl, g1, g2, g3, g4⟩ := h
  unfold maxLen at g2
  by_cases t1 : t = 1
  · subst t1
    have HF := hide (hFB.is (fitp_1 b))
    rw [show plainB 1 = true from rfl, Bool.true_and]
    by_cases h1 : b.length = 1
    · obtain ⟨bl, off, rfl, hc⟩ := g3 (by omega)
      have c0 : w.cell? ⟨bl, off, none⟩ = some (.int .u8 (el b 0)) := hc 0 (by omega)
      have HB : Hid (boolB b = (decide (el b 0 = 0) || decide (el b 0 = 255))) := hide (by unfold boolB; rw [decide_eq_true h1, Bool.true_and])
      have h1i : ((b.length : Int) == 1) = true := beq_iff_eq.2 (by omega)
      have hp : 0 < b.length := by omega
      generalize el b 0 = x at *
      clear hc g3 h1
      by_cases hx : x = 0
      · have hxi : ((x : Int) == 0) = true := beq_iff_eq.2 (by omega)
        have HR : Hid (FB 1 b = true) := hide (by rw [← HF.out, HB.out, decide_eq_true hx, Bool.true_or])
        clear hx
        go_enter Tryd.func45, Tryd.ntmps45
        go_wp2
        go_ret
        exact ⟨ret_bool HR.out.symm, Below.refl _ _⟩
      · have hxi : ((x : Int) == 0) = false := beq_eq_false_iff_ne.2 (by omega)
        have HR : Hid (FB 1 b = decide (x = 255)) := hide (by rw [← HF.out, HB.out, decide_eq_false hx, Bool.false_or])
        clear hx
        go_enter Tryd.func45, Tryd.ntmps45
        go_wp2
        go_ret
        exact ⟨ret_bool (by rw [HR.out, Bool.eq_iff_iff]; simp; omega), Below.refl _ _⟩
    · have h1i : ((b.length : Int) == 1) = false := beq_eq_false_iff_ne.2 (by omega)
      have HR : Hid (FB 1 b = false) := hide (by rw [← HF.out]; unfold boolB; rw [decide_eq_false h1, Bool.false_and])
      clear h1
      go_enter Tryd.func45, Tryd.ntmps45
      go_wp2
      go_ret
      exact ⟨ret_bool HR.out.symm, Below.refl _ _⟩
  by_cases t2 : t = 2
  · subst t2
    have HF := hide (hFB.is (fitp_2 b))
    rw [show plainB 2 = true from rfl, Bool.true_and]
    go_enter Tryd.func45, Tryd.ntmps45
    go_wp2_with fail
    refine (fitsInt_any _ b w h').mono ?_
    rintro e w1 ⟨rfl, rfl⟩
    go_wp2_with fail
    go_ret
    exact ⟨ret_bool HF.out, Below.refl _ _⟩
  by_cases t3 : t = 3
  · subst t3
    have HF := hide (hFB.is (fitp_3 b))
    rw [show plainB 3 = true from rfl, Bool.true_and]
    go_enter Tryd.func45, Tryd.ntmps45
    go_wp2_with fail
    refine (fitsBits_any _ b w h').mono ?_
    rintro e w1 ⟨rfl, hd⟩
    go_wp2_with fail
    go_ret
    exact ⟨ret_bool HF.out, hd.below⟩
  by_cases t5 : t = 5
  · subst t5
    have HF := hide (hFB.is (r := ((b.length : Int) == 0)) ((fitp_5 b).trans (by rw [beq_iff_eq]; omega)))
    rw [show plainB 5 = true from rfl, Bool.true_and]
    go_enter Tryd.func45, Tryd.ntmps45
    go_wp2
    go_ret
    exact ⟨ret_bool HF.out, Below.refl _ _⟩
  by_cases t6 : t = 6
  · subst t6
    have HF := hide (hFB.is (fitp_6 b))
    rw [show plainB 6 = true from rfl, Bool.true_and]
    go_enter Tryd.func45, Tryd.ntmps45
    go_wp2_with fail
    refine (fitsOid_any _ b w h' hl).mono ?_
    rintro e w1 ⟨rfl, hb1⟩
    go_wp2_with fail
    go_ret
    exact ⟨ret_bool HF.out, hb1⟩
  by_cases t12 : t = 12
  · subst t12
    have HF := hide (hFB.is (fitp_12 b))
    rw [show plainB 12 = true from rfl, Bool.true_and]
    go_enter Tryd.func45, Tryd.ntmps45
    go_wp2_with fail
    refine (valid_any _ b w h' hT (by omega)).mono ?_
    rintro e w1 ⟨rfl, hb1⟩
    go_wp2_with fail
    go_ret
    exact ⟨ret_bool HF.out, hb1⟩
  by_cases t24 : t = 24
  · subst t24
    rw [show plainB 24 = true from rfl, Bool.true_and]
    go_enter Tryd.func45, Tryd.ntmps45
    go_wp2_with fail
    refine (fitsTime_any _ b w h' hl).mono ?_
    rintro e w1 ⟨⟨r, rfl, hr⟩, hb1⟩
    have HF := hide (hFB.is (r := r) ((fitp_24 b).trans hr))
    clear hr
    go_wp2_with fail
    go_ret
    exact ⟨ret_bool HF.out, hb1⟩
  have e1 : (t == 1) = false := beq_eq_false_iff_ne.2 t1
  have e2 : (t == 2) = false := beq_eq_false_iff_ne.2 t2
  have e3 : (t == 3) = false := beq_eq_false_iff_ne.2 t3
  have e5 : (t == 5) = false := beq_eq_false_iff_ne.2 t5
  have e6 : (t == 6) = false := beq_eq_false_iff_ne.2 t6
  have e12 : (t == 12) = false := beq_eq_false_iff_ne.2 t12
  have e24 : (t == 24) = false := beq_eq_false_iff_ne.2 t24
  have HF : Hid (FB t b = true) := hide ((hFB t b).2 (fitp_other (by omega) b))
  rw [HF.out, Bool.and_true]
  clear t1 t2 t3 t5 t6 t12 t24
  go_enter Tryd.func45, Tryd.ntmps45
  go_wp2_with fail
  refine (plain_any t w).mono ?_
  rintro e w1 ⟨rfl, rfl⟩
  go_wp2_with fail
  go_ret
  exact ⟨rfl, Below.refl _ _⟩

set_option maxHeartbeats 1000000 in
theorem inOrder_any (t : Int) (v : Value) (l : List (List Nat)) (w : World) (h : Rows2 w v l) :
    Calls Tryd.prog 54 #[.int .i64 t, v] w fun e w' => e = .returned (.bool (decide (¬ (t = 49 ∧ sortedB l = false)))) ∧ Drew w w' := by
  have hs := sorted_any v l w h
  obtain ⟨a, cap, rfl, _⟩ := h.opens
  by_cases ht : t = 49
  · subst ht
    cases hb : sortedB l with
    | true =>
      rw [hb] at hs
      go_enter Tryd.func54, Tryd.ntmps54
      go_wp2_with fail
      refine hs.mono ?_
      rintro e w1 ⟨rfl, hd⟩
      go_wp2_with fail
      go_ret
      exact ⟨ret_bool (by simp), hd⟩
    | false =>
      rw [hb] at hs
      go_enter Tryd.func54, Tryd.ntmps54
      go_wp2_with fail
      refine hs.mono ?_
      rintro e w1 ⟨rfl, hd⟩
      go_wp2_with fail
      go_ret
      exact ⟨ret_bool (by simp), hd⟩
  · have hti : (t != 49) = true := by simpa using ht
    have HB : Hid (decide (¬ (t = 49 ∧ sortedB l = false)) = true) := hide (decide_eq_true (fun h => ht h.1))
    rw [HB.out]
    clear ht
    go_enter Tryd.func54, Tryd.ntmps54
    go_wp2_with fail
    go_ret
    exact ⟨rfl, Drew.refl _⟩
end Go.Proofs.YtjkciheoknjfhaaDoor
