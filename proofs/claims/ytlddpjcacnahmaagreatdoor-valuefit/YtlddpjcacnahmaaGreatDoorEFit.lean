/- Which bytes fit a tag: der's fitsInt, fitsBits, fitsOid, fitsTime, fits. -/
import Derived.Test.YtlddpjcacnahmaaGreatDoorEVal
import Derived.Test.YtlddpjcacnahmaaGreatDoorKit
import Derived.Test.YtlddpjcacnahmaaGreatDoorDFit
import Derived.Test.YtlddpjcacnahmaaGreatDoorOLoo
import Derived.Test.YtlddpjcacnahmaaGreatDoorSRea
import Derived.Test.YtlddpjcacnahmaaGreatDoorNum
import Derived.Test.YtlddpjcacnahmaaGreatDoorDRdM
import Derived.Test.YtlddpjcacnahmaaGreatDoorPCmp
import Derived.Deep.DeepCutAuto
namespace Go.Proofs.YtlddpjcacnahmaaGreatDoor
open Go.RowKit
set_option linter.unusedVariables false

set_option maxHeartbeats 1000000 in
set_option maxRecDepth 100000 in
theorem fitsInt_any (v : Value) (b : List Nat) (w : World) (h : Row .u8 256 w v b) :
    Calls Tryz.prog 156 #[v] w fun e w' => e = .returned (.bool (intB b)) ∧ w' = w := by
  have hu := h.under
  obtain ⟨a, cap, rfl, g1, g2, g3, g4⟩ := h
  unfold maxLen at g2
  by_cases hl : b.length < 2
  · have hli : (b.length : Int) < 2 := by omega
    by_cases h1 : b.length = 1
    · have h1i : ((b.length : Int) == 1) = true := beq_iff_eq.2 (by omega)
      have HB : Hid (intB b = true) := hide (by unfold intB; rw [if_pos hl]; exact decide_eq_true h1)
      clear h1
      go_enter Tryz.func156, Tryz.ntmps156
      go_wp2
      go_ret
      exact ⟨ret_bool HB.out.symm, rfl⟩
    · have h1i : ((b.length : Int) == 1) = false := beq_eq_false_iff_ne.2 (by omega)
      have HB : Hid (intB b = false) := hide (by unfold intB; rw [if_pos hl]; exact decide_eq_false h1)
      clear h1
      go_enter Tryz.func156, Tryz.ntmps156
      go_wp2
      go_ret
      exact ⟨ret_bool HB.out.symm, rfl⟩
  · obtain ⟨bl, off, rfl, hc⟩ := g3 (by omega)
    have c0 : w.cell? ⟨bl, off, none⟩ = some (.int .u8 (el b 0)) := hc 0 (by omega)
    have c1 := hc 1 (by omega)
    have hx := el_lt hu (by decide) 0
    have hy := el_lt hu (by decide) 1
    have hli : ¬ (b.length : Int) < 2 := by omega
    have HI : Hid (intB b = (!(decide (el b 0 = 0) && decide (el b 1 < 128)) && !(decide (el b 0 = 255) && decide (128 ≤ el b 1)))) := hide (by unfold intB; rw [if_neg hl])
    generalize el b 0 = x at *
    generalize el b 1 = y at *
    clear hc g3
    have h1p : 1 < b.length := by omega
    have h0p : 0 < b.length := by omega
    by_cases h1 : 128 ≤ y
    · have h1i : (128 : Int) ≤ (y : Int) := by omega
      have h1t : decide ((128 : Int) ≤ (y : Int)) = true := decide_eq_true h1i
      have h1u : decide (128 ≤ y) = true := decide_eq_true h1
      by_cases h2 : x = 255
      · subst h2
        have HB : Hid (intB b = false) := hide (by rw [HI.out]; simp [h1])
        go_enter Tryz.func156, Tryz.ntmps156
        go_wp2
        go_ret
        exact ⟨ret_bool HB.out.symm, rfl⟩
      · have h2i : ((x : Int) == 255) = false := by simp; omega
        have HB : Hid (intB b = true) := hide (by rw [HI.out]; simp [h2]; omega)
        clear h2
        by_cases h0 : x = 0
        · have h0i : ((x : Int) == 0) = true := by simp; omega
          clear h0
          go_enter Tryz.func156, Tryz.ntmps156
          go_wp2
          go_ret
          exact ⟨ret_bool HB.out.symm, rfl⟩
        · have h0i : ((x : Int) == 0) = false := by simp; omega
          clear h0
          go_enter Tryz.func156, Tryz.ntmps156
          go_wp2
          go_ret
          exact ⟨ret_bool HB.out.symm, rfl⟩
    · have h1i : ¬ (128 : Int) ≤ (y : Int) := by omega
      have h1t : decide ((128 : Int) ≤ (y : Int)) = false := decide_eq_false h1i
      have h1u : decide (128 ≤ y) = false := decide_eq_false h1
      by_cases h0 : x = 0
      · subst h0
        have HB : Hid (intB b = false) := hide (by rw [HI.out]; simp; omega)
        go_enter Tryz.func156, Tryz.ntmps156
        go_wp2
        go_ret
        exact ⟨ret_bool HB.out.symm, rfl⟩
      · have h0i : ((x : Int) == 0) = false := by simp; omega
        have HB : Hid (intB b = true) := hide (by rw [HI.out]; simp [h0]; omega)
        clear h0
        by_cases h2 : x = 255
        · have h2i : ((x : Int) == 255) = true := by simp; omega
          clear h2
          go_enter Tryz.func156, Tryz.ntmps156
          go_wp2
          go_ret
          exact ⟨ret_bool HB.out.symm, rfl⟩
        · have h2i : ((x : Int) == 255) = false := by simp; omega
          clear h2
          go_enter Tryz.func156, Tryz.ntmps156
          go_wp2
          go_ret
          exact ⟨ret_bool HB.out.symm, rfl⟩

set_option maxRecDepth 100000 in
theorem low_bits : ∀ (y : Fin 256), bits .and .u8 ((y.val : Nat) : Int) 0 = 0 ∧ bits .and .u8 ((y.val : Nat) : Int) 1 = ((y.val % 2 : Nat) : Int) ∧ bits .and .u8 ((y.val : Nat) : Int) 3 = ((y.val % 4 : Nat) : Int) ∧ bits .and .u8 ((y.val : Nat) : Int) 7 = ((y.val % 8 : Nat) : Int) ∧ bits .and .u8 ((y.val : Nat) : Int) 15 = ((y.val % 16 : Nat) : Int) ∧ bits .and .u8 ((y.val : Nat) : Int) 31 = ((y.val % 32 : Nat) : Int) ∧ bits .and .u8 ((y.val : Nat) : Int) 63 = ((y.val % 64 : Nat) : Int) ∧ bits .and .u8 ((y.val : Nat) : Int) 127 = ((y.val % 128 : Nat) : Int) := by decide
set_option maxHeartbeats 2000000 in
set_option maxRecDepth 100000 in
theorem fitsBits_any (v : Value) (b : List Nat) (w : World) (h : Row .u8 256 w v b) :
    Calls Tryz.prog 157 #[v] w fun e w' => e = .returned (.bool (bitsB b)) ∧ Drew w w' := by
  have hu := h.under
  obtain ⟨a, cap, rfl, g1, g2, g3, g4⟩ := h
  unfold maxLen at g2
  by_cases h0 : b.length = 0
  · have h0i : ((b.length : Int) == 0) = true := beq_iff_eq.2 (by omega)
    have HB : Hid (bitsB b = false) := hide (by unfold bitsB; rw [if_pos (.inl h0)])
    clear h0
    go_enter Tryz.func157, Tryz.ntmps157
    go_wp2
    go_ret
    exact ⟨ret_bool HB.out.symm, Drew.refl _⟩
  · obtain ⟨bl, off, rfl, hc⟩ := g3 (by omega)
    have c0 : w.cell? ⟨bl, off, none⟩ = some (.int .u8 (el b 0)) := hc 0 (by omega)
    obtain ⟨L, hL⟩ : ∃ L, b.length = L + 1 := ⟨b.length - 1, by omega⟩
    have c1 := hc L (by omega)
    have hx := el_lt hu (by decide) 0
    have hy := el_lt hu (by decide) L
    have h0i : ((b.length : Int) == 0) = false := beq_eq_false_iff_ne.2 (by omega)
    by_cases h7 : 7 < el b 0
    · have HB : Hid (bitsB b = false) := hide (by unfold bitsB; rw [if_pos (.inr h7)])
      have h7i : (7 : Int) < (el b 0 : Int) := by omega
      have hp : 0 < b.length := by omega
      generalize el b 0 = x at *
      clear hc g3 h0 hL c1
      go_enter Tryz.func157, Tryz.ntmps157
      go_wp2
      go_ret
      exact ⟨ret_bool HB.out.symm, Drew.refl _⟩
    · have h7i : ¬ (7 : Int) < (el b 0 : Int) := by omega
      have h7d : decide ((7 : Int) < (el b 0 : Int)) = false := decide_eq_false h7i
      have h7e : decide (7 < el b 0) = false := decide_eq_false h7
      have hp : 0 < b.length := by omega
      by_cases h1 : b.length = 1
      · have HB : Hid (bitsB b = decide (el b 0 = 0)) := hide (by unfold bitsB; rw [if_neg (by omega), if_pos h1])
        have h1i : ((b.length : Int) == 1) = true := beq_iff_eq.2 (by omega)
        generalize el b 0 = x at *
        clear hc g3 h0 hL c1 h1
        go_enter Tryz.func157, Tryz.ntmps157
        go_wp2
        go_ret
        exact ⟨ret_bool (by rw [HB.out, Bool.eq_iff_iff]; simp), Drew.refl _⟩
      · have HB : Hid (bitsB b = decide (el b L % 2 ^ (el b 0) = 0)) := hide (by unfold bitsB; rw [if_neg (by omega), if_neg h1, show b.length - 1 = L by omega])
        have h1i : ((b.length : Int) == 1) = false := beq_eq_false_iff_ne.2 (by omega)
        have hLi : (b.length : Int) - 1 = (L : Int) := by omega
        have hLb : 0 ≤ (L : Int) ∧ (L : Int) < b.length := by omega
        have hLn : L < b.length := by omega
        generalize hx0 : el b 0 = x at *
        generalize el b L = y at *
        clear hc g3 h0 hL h1 hx0
        obtain ⟨b0, b1, b2, b3, b4, b5, b6, b7⟩ := low_bits ⟨y, hy⟩
        simp only at b0 b1 b2 b3 b4 b5 b6 b7
        have hx7 : x = 0 ∨ x = 1 ∨ x = 2 ∨ x = 3 ∨ x = 4 ∨ x = 5 ∨ x = 6 ∨ x = 7 := by omega
        clear h7 h7i h7d h7e hx
        rcases hx7 with rfl | rfl | rfl | rfl | rfl | rfl | rfl | rfl
        all_goals
          go_enter Tryz.func157, Tryz.ntmps157
          go_wp2
          go_quiet (fail)
          go_wp2
          go_ret
          exact ⟨ret_bool (by rw [HB.out, Bool.eq_iff_iff]; simp; try omega), _, rfl⟩
end Go.Proofs.YtlddpjcacnahmaaGreatDoor

/- Which bytes fit a tag: der's fitsOid, fitsTime, fits; inOrder. -/
namespace Go.Proofs.YtlddpjcacnahmaaGreatDoor
open Go.RowKit
set_option linter.unusedVariables false

set_option maxHeartbeats 1000000 in
set_option maxRecDepth 100000 in
theorem fitsOid_any (v : Value) (b : List Nat) (w : World) (h : Row .u8 256 w v b) (hl : b.length ≤ 60000) :
    Calls Tryz.prog 158 #[v] w fun e w' => e = .returned (.bool (parR b).isSome) ∧ Below w.heap.size w w' := by
  have h' := h
  have HE := hide (parR_eq h.under)
  obtain ⟨a, cap, rfl, g1, g2, g3, g4⟩ := h
  have hli : ¬ (65536 : Int) < (b.length : Int) := by omega
  have hln : ¬ 65536 < b.length := by omega
  rw [HE.out]
  go_enter Tryz.func158, Tryz.ntmps158
  go_wp2_with fail
  refine (parse_any _ b w h').mono ?_
  rintro e w1 ⟨⟨u, rfl, _⟩, hb1⟩
  cases hp : (parO b).isSome with
  | true =>
    have HP := hide hp
    go_wp2_with fail
    go_ret
    exact ⟨ret_bool HP.out.symm, hb1⟩
  | false =>
    have HP := hide hp
    go_wp2_with fail
    go_ret
    exact ⟨ret_bool HP.out.symm, hb1⟩

set_option maxHeartbeats 1000000 in
set_option maxRecDepth 100000 in
theorem fitsTime_any (v : Value) (b : List Nat) (w : World) (h : Row .u8 256 w v b) (hl : b.length ≤ 60000) :
    Calls Tryz.prog 160 #[v] w fun e w' => (∃ r : Bool, e = .returned (.bool r) ∧ (TimeP (bts b) ↔ r = true)) ∧ Below w.heap.size w w' := by
  have v1 := conv_row h
  have hbl : (bts b).length ≤ 1000000 := by unfold bts; rw [List.length_map]; omega
  obtain ⟨a, cap, rfl, g1, g2, g3, g4⟩ := h
  have hli : ¬ (65536 : Int) < (b.length : Int) := by omega
  have hln : ¬ 65536 < b.length := by omega
  go_enter Tryz.func160, Tryz.ntmps160
  go_wp2_with fail
  refine (sread_any (bts b) w hbl).mono ?_
  rintro e w1 ⟨⟨z, c, rfl, hT⟩, hb1⟩
  have HR := hide (read_time hT)
  clear hT
  go_wp2_with fail
  go_ret
  exact ⟨⟨_, rfl, HR.out⟩, hb1⟩

set_option maxHeartbeats 2000000 in
set_option maxRecDepth 100000 in
theorem fits_any (FB : Int → List Nat → Bool) (hFB : FBok FB) (t : Int) (v : Value) (b : List Nat) (w : World) (h : Row .u8 256 w v b) (hT : UTabs w) (hl : b.length ≤ 60000) :
    Calls Tryz.prog 152 #[.int .i64 t, v] w fun e w' => e = .returned (.bool (plainB t && FB t b)) ∧ Below w.heap.size w w' := by
  have h' := h
  obtain ⟨a, cap, rfl, g1, g2, g3, g4⟩ := h
  unfold maxLen at g2
  by_cases t1 : t = 1
  · subst t1
    have HF := hide (hFB.is (fitp_1 b))
    rw [show plainB 1 = true from rfl, Bool.true_and]
    by_cases h1 : b.length = 1
    · obtain ⟨bl, off, rfl, hc⟩ := g3 (by omega)
      have c0 : w.cell? ⟨bl, off, none⟩ = some (.int .u8 (el b 0)) := hc 0 (by omega)
      have HB : Hid (boolB b = (decide (el b 0 = 0) || decide (el b 0 = 255))) := hide (by unfold boolB; rw [decide_eq_true h1, Bool.true_and])
      have h1i : ((b.length : Int) == 1) = true := beq_iff_eq.2 (by omega)
      have hp : 0 < b.length := by omega
      generalize el b 0 = x at *
      clear hc g3 h1
      by_cases hx : x = 0
      · have hxi : ((x : Int) == 0) = true := beq_iff_eq.2 (by omega)
        have HR : Hid (FB 1 b = true) := hide (by rw [← HF.out, HB.out, decide_eq_true hx, Bool.true_or])
        clear hx
        go_enter Tryz.func152, Tryz.ntmps152
        go_wp2
        go_ret
        exact ⟨ret_bool HR.out.symm, Below.refl _ _⟩
      · have hxi : ((x : Int) == 0) = false := beq_eq_false_iff_ne.2 (by omega)
        have HR : Hid (FB 1 b = decide (x = 255)) := hide (by rw [← HF.out, HB.out, decide_eq_false hx, Bool.false_or])
        clear hx
        go_enter Tryz.func152, Tryz.ntmps152
        go_wp2
        go_ret
        exact ⟨ret_bool (by rw [HR.out, Bool.eq_iff_iff]; simp; omega), Below.refl _ _⟩
    · have h1i : ((b.length : Int) == 1) = false := beq_eq_false_iff_ne.2 (by omega)
      have HR : Hid (FB 1 b = false) := hide (by rw [← HF.out]; unfold boolB; rw [decide_eq_false h1, Bool.false_and])
      clear h1
      go_enter Tryz.func152, Tryz.ntmps152
      go_wp2
      go_ret
      exact ⟨ret_bool HR.out.symm, Below.refl _ _⟩
  by_cases t2 : t = 2
  · subst t2
    have HF := hide (hFB.is (fitp_2 b))
    rw [show plainB 2 = true from rfl, Bool.true_and]
    go_enter Tryz.func152, Tryz.ntmps152
    go_wp2_with fail
    refine (fitsInt_any _ b w h').mono ?_
    rintro e w1 ⟨rfl, rfl⟩
    go_wp2_with fail
    go_ret
    exact ⟨ret_bool HF.out, Below.refl _ _⟩
  by_cases t3 : t = 3
  · subst t3
    have HF := hide (hFB.is (fitp_3 b))
    rw [show plainB 3 = true from rfl, Bool.true_and]
    go_enter Tryz.func152, Tryz.ntmps152
    go_wp2_with fail
    refine (fitsBits_any _ b w h').mono ?_
    rintro e w1 ⟨rfl, hd⟩
    go_wp2_with fail
    go_ret
    exact ⟨ret_bool HF.out, hd.below⟩
  by_cases t5 : t = 5
  · subst t5
    have HF := hide (hFB.is (r := ((b.length : Int) == 0)) ((fitp_5 b).trans (by rw [beq_iff_eq]; omega)))
    rw [show plainB 5 = true from rfl, Bool.true_and]
    go_enter Tryz.func152, Tryz.ntmps152
    go_wp2
    go_ret
    exact ⟨ret_bool HF.out, Below.refl _ _⟩
  by_cases t6 : t = 6
  · subst t6
    have HF := hide (hFB.is (fitp_6 b))
    rw [show plainB 6 = true from rfl, Bool.true_and]
    go_enter Tryz.func152, Tryz.ntmps152
    go_wp2_with fail
    refine (fitsOid_any _ b w h' hl).mono ?_
    rintro e w1 ⟨rfl, hb1⟩
    go_wp2_with fail
    go_ret
    exact ⟨ret_bool HF.out, hb1⟩
  by_cases t12 : t = 12
  · subst t12
    have HF := hide (hFB.is (fitp_12 b))
    rw [show plainB 12 = true from rfl, Bool.true_and]
    go_enter Tryz.func152, Tryz.ntmps152
    go_wp2_with fail
    refine (valid_any _ b w h' hT (by omega)).mono ?_
    rintro e w1 ⟨rfl, hb1⟩
    go_wp2_with fail
    go_ret
    exact ⟨ret_bool HF.out, hb1⟩
  by_cases t24 : t = 24
  · subst t24
    rw [show plainB 24 = true from rfl, Bool.true_and]
    go_enter Tryz.func152, Tryz.ntmps152
    go_wp2_with fail
    refine (fitsTime_any _ b w h' hl).mono ?_
    rintro e w1 ⟨⟨r, rfl, hr⟩, hb1⟩
    have HF := hide (hFB.is (r := r) ((fitp_24 b).trans hr))
    clear hr
    go_wp2_with fail
    go_ret
    exact ⟨ret_bool HF.out, hb1⟩
  have e1 : (t == 1) = false := beq_eq_false_iff_ne.2 t1
  have e2 : (t == 2) = false := beq_eq_false_iff_ne.2 t2
  have e3 : (t == 3) = false := beq_eq_false_iff_ne.2 t3
  have e5 : (t == 5) = false := beq_eq_false_iff_ne.2 t5
  have e6 : (t == 6) = false := beq_eq_false_iff_ne.2 t6
  have e12 : (t == 12) = false := beq_eq_false_iff_ne.2 t12
  have e24 : (t == 24) = false := beq_eq_false_iff_ne.2 t24
  have HF : Hid (FB t b = true) := hide ((hFB t b).2 (fitp_other (by omega) b))
  rw [HF.out, Bool.and_true]
  clear t1 t2 t3 t5 t6 t12 t24
  go_enter Tryz.func152, Tryz.ntmps152
  go_wp2_with fail
  refine (plain_any t w).mono ?_
  rintro e w1 ⟨rfl, rfl⟩
  go_wp2_with fail
  go_ret
  exact ⟨rfl, Below.refl _ _⟩

set_option maxHeartbeats 1000000 in
set_option maxRecDepth 100000 in
theorem inOrder_any (t : Int) (v : Value) (l : List (List Nat)) (w : World) (h : Rows2 w v l) :
    Calls Tryz.prog 154 #[.int .i64 t, v] w fun e w' => e = .returned (.bool (decide (¬ (t = 49 ∧ sortedB l = false)))) ∧ Drew w w' := by
  have hs := sorted_any v l w h
  obtain ⟨a, cap, rfl, _⟩ := h.opens
  by_cases ht : t = 49
  · subst ht
    cases hb : sortedB l with
    | true =>
      rw [hb] at hs
      go_enter Tryz.func154, Tryz.ntmps154
      go_wp2_with fail
      refine hs.mono ?_
      rintro e w1 ⟨rfl, hd⟩
      go_wp2_with fail
      go_ret
      exact ⟨ret_bool (by simp), hd⟩
    | false =>
      rw [hb] at hs
      go_enter Tryz.func154, Tryz.ntmps154
      go_wp2_with fail
      refine hs.mono ?_
      rintro e w1 ⟨rfl, hd⟩
      go_wp2_with fail
      go_ret
      exact ⟨ret_bool (by simp), hd⟩
  · have hti : (t != 49) = true := by simpa using ht
    have HB : Hid (decide (¬ (t = 49 ∧ sortedB l = false)) = true) := hide (decide_eq_true (fun h => ht h.1))
    rw [HB.out]
    clear ht
    go_enter Tryz.func154, Tryz.ntmps154
    go_wp2_with fail
    go_ret
    exact ⟨rfl, Drew.refl _⟩
end Go.Proofs.YtlddpjcacnahmaaGreatDoor

/- der's reader: kids, under what value tells one layer below. -/
namespace Go.Proofs.YtlddpjcacnahmaaGreatDoor
open Go.RowKit Go.Deep
set_option linter.unusedVariables false

def GLow (P : Nat) : Prop := 1 < P ∧ 2 < P
theorem GLow.mono {P Q : Nat} (h : GLow P) (hl : P ≤ Q) : GLow Q := ⟨Nat.lt_of_lt_of_le h.1 hl, Nat.lt_of_lt_of_le h.2 hl⟩
theorem UTabs.low {w : World} (h : UTabs w) : GLow w.heap.size :=
  ⟨World.block_lt_of_cell? w _ (h.1 0 (by decide)), World.block_lt_of_cell? w _ (h.2 0 (by decide)).1⟩
theorem UTabs.turn {P : Nat} {w w' : World} (h : UTabs w) (hP : GLow P) (ht : Turn P w w') : UTabs w' := by
  refine ⟨fun c hc => ?_, fun i hi => ⟨?_, ?_⟩⟩
  · rw [ht.1.cell (p := ⟨_, c, none⟩) hP.1]; exact h.1 c hc
  · rw [ht.1.cell (p := ⟨_, 2 * i, none⟩) hP.2]; exact (h.2 i hi).1
  · rw [ht.1.cell (p := ⟨_, 2 * i + 1, none⟩) hP.2]; exact (h.2 i hi).2
/-- what kids tells -/
def KidsE (FB : Int → List Nat → Bool) (deep B0 : Nat) (t : Int) (I : List Nat) (w : World) (e : Ending) (w' : World) : Prop :=
  ((∃ er, rdk (rd FB deep) I.length I = .err er ∧ 0 < er ∧ e = thr er) ∨ (∃ xs, rdk (rd FB deep) I.length I = .ok xs ∧ (t = 49 ∧ sortedB (xs.map (·.2)) = false) ∧ e = thr 6) ∨
   (∃ xs kv dd, rdk (rd FB deep) I.length I = .ok xs ∧ ¬ (t = 49 ∧ sortedB (xs.map (·.2)) = false) ∧ e = .returned kv ∧ NdIn (fun q => q < B0 ∨ w.heap.size ≤ q) w' dd (.int .i64 t) (.slice none 0 0) kv (.mk t [] (xs.map (·.1))))) ∧ Below w.heap.size w w'

end Go.Proofs.YtlddpjcacnahmaaGreatDoor

/- The value that bytes begin with: the document's read. -/
namespace Go.Proofs.YtlddpjcacnahmaaGreatDoor
open Go.RowKit Go.Deep
set_option linter.unusedVariables false

/-- a node of nothing -/
def nod0 : Value := .agg #[.int .i64 0, .slice none 0 0, .slice none 0 0]
/-- what read tells -/
def ReadE (FB : Int → List Nat → Bool) (deep B0 : Nat) (b : List Nat) (w : World) (e : Ending) (w' : World) : Prop :=
  ((∃ er, rd FB deep b = .err er ∧ 0 < er ∧ e = .returned (.tuple #[nod0, .int .i64 0, .int .i64 (er : Nat)])) ∨
   (∃ x m d c0 c1 c2, rd FB deep b = .ok (x, m) ∧ e = .returned (.tuple #[.agg #[c0, c1, c2], .int .i64 (m : Nat), .int .i64 0]) ∧ NdIn (fun k => k < B0 ∨ w.heap.size ≤ k) w' d c0 c1 c2 x)) ∧ Below w.heap.size w w'
theorem ReadE.no {FB : Int → List Nat → Bool} {deep B0 er : Nat} {b : List Nat} {w w' : World} (h : rd FB deep b = .err er) (hb : Below w.heap.size w w') (h0 : 0 < er := by decide) : ReadE FB deep B0 b w (.returned (.tuple #[nod0, .int .i64 0, .int .i64 (er : Nat)])) w' := ⟨.inl ⟨er, h, h0, rfl⟩, hb⟩

theorem set3 {w : World} {p : Nat} {c0 c1 c2 : Value} {t : TypeId} (h : w.heap[p]? = some (.cells #[c0, c1, c2] t)) (v0 v1 v2 : Value) :
    (((w.setCell ⟨p, 0, none⟩ v0).setCell ⟨p, 1, none⟩ v1).setCell ⟨p, 2, none⟩ v2).heap[p]? = some (.cells #[v0, v1, v2] t) := by
  rw [heap_setCell_same _ _ _ _ _ _ (heap_setCell_same _ _ _ _ _ _ (heap_setCell_same _ _ _ _ _ _ h))]
  rfl
theorem below3 {B : Nat} {a w : World} (h : Below B a w) {p : Nat} (hp : B ≤ p) (v0 v1 v2 : Value) : Below B a (((w.setCell ⟨p, 0, none⟩ v0).setCell ⟨p, 1, none⟩ v1).setCell ⟨p, 2, none⟩ v2) :=
  ((h.setCell (by exact hp) _).setCell (by exact hp) _).setCell (by exact hp) _
theorem cells3 {w : World} {p : Nat} {c0 c1 c2 : Value} {t : TypeId} (h : w.heap[p]? = some (.cells #[c0, c1, c2] t)) : w.cell? ⟨p, 0, none⟩ = some c0 ∧ w.cell? ⟨p, 1, none⟩ = some c1 ∧ w.cell? ⟨p, 2, none⟩ = some c2 ∧ w.frozen? ⟨p, 0, none⟩ = false ∧ w.frozen? ⟨p, 1, none⟩ = false ∧ w.frozen? ⟨p, 2, none⟩ = false :=
  ⟨by rw [cell_at' h]; rfl, by rw [cell_at' h]; rfl, by rw [cell_at' h]; rfl, frozen_of_row w _ 0 _ _ h, frozen_of_row w _ 1 _ _ h, frozen_of_row w _ 2 _ _ h⟩
theorem lenD_zero {b : List Nat} (h : (lenD b).2 = 0) : (lenD b).1 = 0 := by
  unfold lenD at *
  split
  · rfl
  · rename_i h0
    rw [if_neg h0] at h
    split
    · rename_i h1; rw [if_pos h1] at h; simp at h
    · rename_i h1
      rw [if_neg h1] at h
      split
      · rfl
      · rename_i h2
        rw [if_neg h2] at h
        split
        · rfl
        · rename_i h3; rw [if_neg h3] at h; simp at h
theorem row_empty (k : IntKind) (m : Nat) (w : World) (a : Option Addr) (cap : Nat) (h : cap ≤ maxLen) : Row k m w (.slice a 0 cap) [] := ⟨a, cap, rfl, Nat.zero_le _, h, fun h => by simp at h, fun x hx => by simp at hx⟩

end Go.Proofs.YtlddpjcacnahmaaGreatDoor

/- der's reader: value. -/
namespace Go.Proofs.YtlddpjcacnahmaaGreatDoor
open Go.RowKit Go.Deep
set_option linter.unusedVariables false

theorem Turn.setNew {P S o : Nat} {w w' : World} {v : Value} (h : Turn P w w') (hS : w.heap.size ≤ S) (hP : P < S) : Turn P w (w'.setCell ⟨S, o, none⟩ v) :=
  ⟨h.1.setCell (by show P ≤ S; omega) _, fun k h1 h2 => (heap_setCell_other _ _ _ _ (by show k ≠ S; omega)).trans (h.2 k h1 h2)⟩
theorem Turn.set3 {P S : Nat} {w w' : World} {v0 v1 v2 : Value} (h : Turn P w w') (hS : w.heap.size ≤ S) (hP : P < S) : Turn P w (((w'.setCell ⟨S, 0, none⟩ v0).setCell ⟨S, 1, none⟩ v1).setCell ⟨S, 2, none⟩ v2) :=
  ((h.setNew hS hP).setNew hS hP).setNew hS hP
theorem other3 {w : World} {S k : Nat} {v0 v1 v2 : Value} (h : k ≠ S) : (((w.setCell ⟨S, 0, none⟩ v0).setCell ⟨S, 1, none⟩ v1).setCell ⟨S, 2, none⟩ v2).heap[k]? = w.heap[k]? := by
  rw [heap_setCell_other _ _ _ _ (by exact h), heap_setCell_other _ _ _ _ (by exact h), heap_setCell_other _ _ _ _ (by exact h)]
theorem rd_short {FB : Int → List Nat → Bool} {deep t : Nat} {r : List Nat} (ht : taggedB (t : Int) = true) (h : (lenD r).2 = 0 ∨ r.length - (lenD r).2 < (lenD r).1) : rd FB (deep + 1) (t :: r) = .err 1 := by
  rw [rd, if_neg (by rw [ht]; decide), if_pos h]
theorem rd_plain {FB : Int → List Nat → Bool} {deep t : Nat} {r : List Nat} (ht : taggedB (t : Int) = true) (h : ¬ ((lenD r).2 = 0 ∨ r.length - (lenD r).2 < (lenD r).1)) (hb : boxedB (t : Int) = false) :
    rd FB (deep + 1) (t :: r) = if FB (t : Int) ((r.drop (lenD r).2).take (lenD r).1) = false then .err 5 else .ok (.mk (t : Int) ((r.drop (lenD r).2).take (lenD r).1) [], 1 + (lenD r).2 + (lenD r).1) := by
  rw [rd, if_neg (by rw [ht]; decide), if_neg h, if_pos hb]
theorem rd_box {FB : Int → List Nat → Bool} {deep t : Nat} {r : List Nat} (ht : taggedB (t : Int) = true) (h : ¬ ((lenD r).2 = 0 ∨ r.length - (lenD r).2 < (lenD r).1)) (hb : boxedB (t : Int) = true) :
    rd FB (deep + 1) (t :: r) = match rdk (rd FB deep) (lenD r).1 ((r.drop (lenD r).2).take (lenD r).1) with
      | .err e => .err e
      | .ok l => if t = 49 ∧ sortedB (l.map (·.2)) = false then .err 6 else .ok (.mk (t : Int) [] (l.map (·.1)), 1 + (lenD r).2 + (lenD r).1) := by
  rw [rd, if_neg (by rw [ht]; decide), if_neg h, if_neg (by rw [hb]; decide)]
  cases rdk (rd FB deep) (lenD r).1 ((r.drop (lenD r).2).take (lenD r).1) <;> rfl

end Go.Proofs.YtlddpjcacnahmaaGreatDoor
