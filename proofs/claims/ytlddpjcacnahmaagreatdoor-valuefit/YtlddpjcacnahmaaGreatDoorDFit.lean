/- Which bytes fit a tag: the document's fitInt, fitBits, FitBytes. -/
import Derived.Test.YtlddpjcacnahmaaGreatDoorDUtf
import Derived.Test.YtlddpjcacnahmaaGreatDoorDTag
import Derived.Test.YtlddpjcacnahmaaGreatDoorPCmp
import Derived.Test.YtlddpjcacnahmaaGreatDoorOPar
import Derived.Test.YtlddpjcacnahmaaGreatDoorSRea
namespace Go.Proofs.YtlddpjcacnahmaaGreatDoor
open Go.RowKit
set_option linter.unusedVariables false

def boolB (b : List Nat) : Bool := decide (b.length = 1) && (decide (el b 0 = 0) || decide (el b 0 = 255))
def intB (b : List Nat) : Bool := if b.length < 2 then decide (b.length = 1) else !(decide (el b 0 = 0) && decide (el b 1 < 128)) && !(decide (el b 0 = 255) && decide (128 ≤ el b 1))
def bitsB (b : List Nat) : Bool := if b.length = 0 ∨ 7 < el b 0 then false else if b.length = 1 then decide (el b 0 = 0) else decide (el b (b.length - 1) % 2 ^ (el b 0) = 0)
/-- a text is a time's -/
def TimeP (l : List UInt8) : Prop := ∃ y m d s, Mom y m d s ∧ l = txt y m d s
/-- bytes fit a tag -/
def FitP (t : Int) (b : List Nat) : Prop :=
  (t = 1 → boolB b = true) ∧ (t = 2 → intB b = true) ∧ (t = 3 → bitsB b = true) ∧ (t = 5 → b.length = 0) ∧ (t = 6 → (parR b).isSome = true) ∧ (t = 12 → utfB b = true) ∧ (t = 24 → TimeP (bts b))
/-- an answer that says so -/
def FBok (FB : Int → List Nat → Bool) : Prop := ∀ t b, FB t b = true ↔ FitP t b
theorem FBok.is {FB : Int → List Nat → Bool} (h : FBok FB) {t : Int} {b : List Nat} {r : Bool} (hr : FitP t b ↔ r = true) : r = FB t b := by
  have h1 := h t b
  cases hf : FB t b with
  | true => exact hr.1 (h1.1 hf)
  | false =>
    cases r with
    | false => rfl
    | true => rw [h1.2 (hr.2 rfl)] at hf; cases hf

set_option maxHeartbeats 1000000 in
theorem rfitInt_any (v : Value) (b : List Nat) (w : World) (h : Row .u8 256 w v b) :
    Calls Tryz.prog 97 #[v] w fun e w' => e = .returned (.bool (intB b)) ∧ w' = w := by
  have hu := h.under
  obtain ⟨a, cap, rfl, g1, g2, g3, g4⟩ := h
  unfold maxLen at g2
  by_cases hl : b.length < 2
  · have hli : (b.length : Int) < 2 := by omega
    by_cases h1 : b.length = 1
    · have h1i : ((b.length : Int) == 1) = true := beq_iff_eq.2 (by omega)
      have HB : Hid (intB b = true) := hide (by unfold intB; rw [if_pos hl]; exact decide_eq_true h1)
      clear h1
      go_enter Tryz.func97, Tryz.ntmps97
      go_wp2
      go_ret
      exact ⟨ret_bool HB.out.symm, rfl⟩
    · have h1i : ((b.length : Int) == 1) = false := beq_eq_false_iff_ne.2 (by omega)
      have HB : Hid (intB b = false) := hide (by unfold intB; rw [if_pos hl]; exact decide_eq_false h1)
      clear h1
      go_enter Tryz.func97, Tryz.ntmps97
      go_wp2
      go_ret
      exact ⟨ret_bool HB.out.symm, rfl⟩
  · obtain ⟨bl, off, rfl, hc⟩ := g3 (by omega)
    have c0 : w.cell? ⟨bl, off, none⟩ = some (.int .u8 (el b 0)) := hc 0 (by omega)
    have c1 := hc 1 (by omega)
    have hx := el_lt hu (by decide) 0
    have hy := el_lt hu (by decide) 1
    have hli : ¬ (b.length : Int) < 2 := by omega
    have HI : Hid (intB b = (!(decide (el b 0 = 0) && decide (el b 1 < 128)) && !(decide (el b 0 = 255) && decide (128 ≤ el b 1)))) := hide (by unfold intB; rw [if_neg hl])
    generalize el b 0 = x at *
    generalize el b 1 = y at *
    clear hc g3
    have h1p : 1 < b.length := by omega
    have h0p : 0 < b.length := by omega
    by_cases h0 : x = 0
    · subst h0
      by_cases h1 : y < 128
      · have h1i : (y : Int) < 128 := by omega
        have HB : Hid (intB b = false) := hide (by rw [HI.out]; simp [h1])
        go_enter Tryz.func97, Tryz.ntmps97
        go_wp2
        go_ret
        exact ⟨ret_bool HB.out.symm, rfl⟩
      · have h1i : decide ((y : Int) < 128) = false := decide_eq_false (by omega)
        have HB : Hid (intB b = true) := hide (by rw [HI.out]; simp [h1])
        go_enter Tryz.func97, Tryz.ntmps97
        go_wp2
        go_ret
        exact ⟨ret_bool HB.out.symm, rfl⟩
    · have h0i : ((x : Int) == 0) = false := by simp; omega
      by_cases h2 : x = 255
      · subst h2
        by_cases h1 : 128 ≤ y
        · have h1i : (128 : Int) ≤ (y : Int) := by omega
          have HB : Hid (intB b = false) := hide (by rw [HI.out]; simp [h1])
          go_enter Tryz.func97, Tryz.ntmps97
          go_wp2
          go_ret
          exact ⟨ret_bool HB.out.symm, rfl⟩
        · have h1i : decide ((128 : Int) ≤ (y : Int)) = false := decide_eq_false (by omega)
          have h1j : decide (128 ≤ y) = false := decide_eq_false (by omega)
          have HB : Hid (intB b = true) := hide (by rw [HI.out]; simp [h1])
          go_enter Tryz.func97, Tryz.ntmps97
          go_wp2
          go_ret
          exact ⟨ret_bool HB.out.symm, rfl⟩
      · have h2i : ((x : Int) == 255) = false := by simp; omega
        have HB : Hid (intB b = true) := hide (by rw [HI.out]; simp [h0, h2])
        clear h0 h2
        go_enter Tryz.func97, Tryz.ntmps97
        go_wp2
        go_ret
        exact ⟨ret_bool HB.out.symm, rfl⟩

set_option maxHeartbeats 2000000 in
theorem rfitBits_any (v : Value) (b : List Nat) (w : World) (h : Row .u8 256 w v b) :
    Calls Tryz.prog 98 #[v] w fun e w' => e = .returned (.bool (bitsB b)) ∧ Drew w w' := by
  have hu := h.under
  obtain ⟨a, cap, rfl, g1, g2, g3, g4⟩ := h
  unfold maxLen at g2
  by_cases h0 : b.length = 0
  · have h0i : ((b.length : Int) == 0) = true := beq_iff_eq.2 (by omega)
    have HB : Hid (bitsB b = false) := hide (by unfold bitsB; rw [if_pos (.inl h0)])
    clear h0
    go_enter Tryz.func98, Tryz.ntmps98
    go_wp2
    go_ret
    exact ⟨ret_bool HB.out.symm, Drew.refl _⟩
  · obtain ⟨bl, off, rfl, hc⟩ := g3 (by omega)
    have c0 : w.cell? ⟨bl, off, none⟩ = some (.int .u8 (el b 0)) := hc 0 (by omega)
    obtain ⟨L, hL⟩ : ∃ L, b.length = L + 1 := ⟨b.length - 1, by omega⟩
    have c1 := hc L (by omega)
    have hx := el_lt hu (by decide) 0
    have hy := el_lt hu (by decide) L
    have h0i : ((b.length : Int) == 0) = false := beq_eq_false_iff_ne.2 (by omega)
    by_cases h7 : 7 < el b 0
    · have HB : Hid (bitsB b = false) := hide (by unfold bitsB; rw [if_pos (.inr h7)])
      have h7i : (7 : Int) < (el b 0 : Int) := by omega
      have hp : 0 < b.length := by omega
      generalize el b 0 = x at *
      clear hc g3 h0 hL c1
      go_enter Tryz.func98, Tryz.ntmps98
      go_wp2
      go_ret
      exact ⟨ret_bool HB.out.symm, Drew.refl _⟩
    · have h7i : ¬ (7 : Int) < (el b 0 : Int) := by omega
      have h7d : decide ((7 : Int) < (el b 0 : Int)) = false := decide_eq_false h7i
      have h7e : decide (7 < el b 0) = false := decide_eq_false h7
      have hp : 0 < b.length := by omega
      by_cases h1 : b.length = 1
      · have HB : Hid (bitsB b = decide (el b 0 = 0)) := hide (by unfold bitsB; rw [if_neg (by omega), if_pos h1])
        have h1i : ((b.length : Int) == 1) = true := beq_iff_eq.2 (by omega)
        generalize el b 0 = x at *
        clear hc g3 h0 hL c1 h1
        go_enter Tryz.func98, Tryz.ntmps98
        go_wp2
        go_ret
        exact ⟨ret_bool (by rw [HB.out, Bool.eq_iff_iff]; simp), Drew.refl _⟩
      · have HB : Hid (bitsB b = decide (el b L % 2 ^ (el b 0) = 0)) := hide (by unfold bitsB; rw [if_neg (by omega), if_neg h1, show b.length - 1 = L by omega])
        have h1i : ((b.length : Int) == 1) = false := beq_eq_false_iff_ne.2 (by omega)
        have hLi : (b.length : Int) - 1 = (L : Int) := by omega
        have hLb : 0 ≤ (L : Int) ∧ (L : Int) < b.length := by omega
        have hLn : L < b.length := by omega
        generalize hx0 : el b 0 = x at *
        generalize el b L = y at *
        clear hc g3 h0 hL h1 hx0
        have hx7 : x = 0 ∨ x = 1 ∨ x = 2 ∨ x = 3 ∨ x = 4 ∨ x = 5 ∨ x = 6 ∨ x = 7 := by omega
        clear h7 h7i h7d h7e hx
        rcases hx7 with rfl | rfl | rfl | rfl | rfl | rfl | rfl | rfl
        all_goals
          go_enter Tryz.func98, Tryz.ntmps98
          go_wp2
          go_quiet (fail)
          go_wp2
          go_ret
          exact ⟨ret_bool (by rw [HB.out, Bool.eq_iff_iff]; simp; try omega), _, rfl⟩

theorem fitp_other {t : Int} (h : ¬ (t = 1 ∨ t = 2 ∨ t = 3 ∨ t = 5 ∨ t = 6 ∨ t = 12 ∨ t = 24)) (b : List Nat) : FitP t b :=
  ⟨fun e => absurd (.inl e) h, fun e => absurd (.inr (.inl e)) h, fun e => absurd (.inr (.inr (.inl e))) h, fun e => absurd (.inr (.inr (.inr (.inl e)))) h, fun e => absurd (.inr (.inr (.inr (.inr (.inl e))))) h, fun e => absurd (.inr (.inr (.inr (.inr (.inr (.inl e)))))) h, fun e => absurd (.inr (.inr (.inr (.inr (.inr (.inr e)))))) h⟩
theorem fitp_1 (b : List Nat) : FitP 1 b ↔ boolB b = true := ⟨fun h => h.1 rfl, fun h => ⟨fun _ => h, fun e => by omega, fun e => by omega, fun e => by omega, fun e => by omega, fun e => by omega, fun e => by omega⟩⟩
theorem fitp_2 (b : List Nat) : FitP 2 b ↔ intB b = true := ⟨fun h => h.2.1 rfl, fun h => ⟨fun e => by omega, fun _ => h, fun e => by omega, fun e => by omega, fun e => by omega, fun e => by omega, fun e => by omega⟩⟩
theorem fitp_3 (b : List Nat) : FitP 3 b ↔ bitsB b = true := ⟨fun h => h.2.2.1 rfl, fun h => ⟨fun e => by omega, fun e => by omega, fun _ => h, fun e => by omega, fun e => by omega, fun e => by omega, fun e => by omega⟩⟩
theorem fitp_5 (b : List Nat) : FitP 5 b ↔ b.length = 0 := ⟨fun h => h.2.2.2.1 rfl, fun h => ⟨fun e => by omega, fun e => by omega, fun e => by omega, fun _ => h, fun e => by omega, fun e => by omega, fun e => by omega⟩⟩
theorem fitp_6 (b : List Nat) : FitP 6 b ↔ (parR b).isSome = true := ⟨fun h => h.2.2.2.2.1 rfl, fun h => ⟨fun e => by omega, fun e => by omega, fun e => by omega, fun e => by omega, fun _ => h, fun e => by omega, fun e => by omega⟩⟩
theorem fitp_12 (b : List Nat) : FitP 12 b ↔ utfB b = true := ⟨fun h => h.2.2.2.2.2.1 rfl, fun h => ⟨fun e => by omega, fun e => by omega, fun e => by omega, fun e => by omega, fun e => by omega, fun _ => h, fun e => by omega⟩⟩
theorem fitp_24 (b : List Nat) : FitP 24 b ↔ TimeP (bts b) := ⟨fun h => h.2.2.2.2.2.2 rfl, fun h => ⟨fun e => by omega, fun e => by omega, fun e => by omega, fun e => by omega, fun e => by omega, fun e => by omega, fun _ => h⟩⟩
theorem read_time {l : List UInt8} {v c : Int} (h : ReadT l v c) : TimeP l ↔ (c == 0) = true := by
  rcases h with ⟨rfl, y, m, d, s, hm, _, hl⟩ | ⟨rfl, _, hn⟩
  · exact ⟨fun _ => rfl, fun _ => ⟨y, m, d, s, hm, hl⟩⟩
  · exact ⟨fun ⟨y, m, d, s, hm, hl⟩ => absurd hl (hn y m d s hm), fun h => by simp at h⟩

set_option maxHeartbeats 2000000 in
theorem rfitb_any (FB : Int → List Nat → Bool) (hFB : FBok FB) (t : Int) (v : Value) (b : List Nat) (w : World) (h : Row .u8 256 w v b) (hl : b.length ≤ 1000000) :
    Calls Tryz.prog 56 #[.int .i64 t, v] w fun e w' => e = .returned (.bool (FB t b)) ∧ Below w.heap.size w w' := by
  have h' := h
  obtain ⟨a, cap, rfl, g1, g2, g3, g4⟩ := h
  unfold maxLen at g2
  by_cases t1 : t = 1
  · subst t1
    have HF := hide (hFB.is (fitp_1 b))
    by_cases h1 : b.length = 1
    · obtain ⟨bl, off, rfl, hc⟩ := g3 (by omega)
      have c0 : w.cell? ⟨bl, off, none⟩ = some (.int .u8 (el b 0)) := hc 0 (by omega)
      have HB : Hid (boolB b = (decide (el b 0 = 0) || decide (el b 0 = 255))) := hide (by unfold boolB; rw [decide_eq_true h1, Bool.true_and])
      have h1i : ((b.length : Int) == 1) = true := beq_iff_eq.2 (by omega)
      have hp : 0 < b.length := by omega
      generalize el b 0 = x at *
      clear hc g3 h1
      by_cases hx : x = 0
      · have hxi : ((x : Int) == 0) = true := beq_iff_eq.2 (by omega)
        have HR : Hid (FB 1 b = true) := hide (by rw [← HF.out, HB.out, decide_eq_true hx, Bool.true_or])
        clear hx
        go_enter Tryz.func56, Tryz.ntmps56
        go_wp2
        go_ret
        exact ⟨ret_bool HR.out.symm, Below.refl _ _⟩
      · have hxi : ((x : Int) == 0) = false := beq_eq_false_iff_ne.2 (by omega)
        have HR : Hid (FB 1 b = decide (x = 255)) := hide (by rw [← HF.out, HB.out, decide_eq_false hx, Bool.false_or])
        clear hx
        go_enter Tryz.func56, Tryz.ntmps56
        go_wp2
        go_ret
        exact ⟨ret_bool (by rw [HR.out, Bool.eq_iff_iff]; simp; omega), Below.refl _ _⟩
    · have h1i : ((b.length : Int) == 1) = false := beq_eq_false_iff_ne.2 (by omega)
      have HR : Hid (FB 1 b = false) := hide (by rw [← HF.out]; unfold boolB; rw [decide_eq_false h1, Bool.false_and])
      clear h1
      go_enter Tryz.func56, Tryz.ntmps56
      go_wp2
      go_ret
      exact ⟨ret_bool HR.out.symm, Below.refl _ _⟩
  by_cases t2 : t = 2
  · subst t2
    have HF := hide (hFB.is (fitp_2 b))
    go_enter Tryz.func56, Tryz.ntmps56
    go_wp2_with fail
    refine (rfitInt_any _ b w h').mono ?_
    rintro e w1 ⟨rfl, rfl⟩
    go_wp2
    go_ret
    exact ⟨ret_bool HF.out, Below.refl _ _⟩
  by_cases t3 : t = 3
  · subst t3
    have HF := hide (hFB.is (fitp_3 b))
    go_enter Tryz.func56, Tryz.ntmps56
    go_wp2_with fail
    refine (rfitBits_any _ b w h').mono ?_
    rintro e w1 ⟨rfl, hd⟩
    go_wp2
    go_ret
    exact ⟨ret_bool HF.out, hd.below⟩
  by_cases t5 : t = 5
  · subst t5
    have HF := hide (hFB.is (r := ((b.length : Int) == 0)) ((fitp_5 b).trans (by rw [beq_iff_eq]; omega)))
    go_enter Tryz.func56, Tryz.ntmps56
    go_wp2
    go_ret
    exact ⟨ret_bool HF.out, Below.refl _ _⟩
  by_cases t6 : t = 6
  · subst t6
    have HF := hide (hFB.is (fitp_6 b))
    go_enter Tryz.func56, Tryz.ntmps56
    go_wp2_with fail
    refine (rparse_any _ b w h' hl).mono ?_
    rintro e w1 ⟨⟨u, rfl, _⟩, hb1⟩
    cases hp : (parR b).isSome with
    | true =>
      rw [hp] at HF
      go_wp2
      go_ret
      exact ⟨ret_bool HF.out, hb1⟩
    | false =>
      rw [hp] at HF
      go_wp2
      go_ret
      exact ⟨ret_bool HF.out, hb1⟩
  by_cases t12 : t = 12
  · subst t12
    have HF := hide (hFB.is (fitp_12 b))
    go_enter Tryz.func56, Tryz.ntmps56
    go_wp2_with fail
    refine (rutf_any _ b w h' hl).mono ?_
    rintro e w1 ⟨rfl, rfl⟩
    go_wp2
    go_ret
    exact ⟨ret_bool HF.out, Below.refl _ _⟩
  by_cases t24 : t = 24
  · subst t24
    have v1 := conv_row h'
    have hbl : (bts b).length ≤ 1000000 := by unfold bts; rw [List.length_map]; exact hl
    go_enter Tryz.func56, Tryz.ntmps56
    go_wp2_with fail
    refine (srread_any (bts b) w hbl).mono ?_
    rintro e w1 ⟨⟨z, c, rfl, hT⟩, rfl⟩
    have HF := hide (hFB.is (r := (c == 0)) ((fitp_24 b).trans (read_time hT)))
    clear hT
    go_wp2
    go_ret
    exact ⟨ret_bool HF.out, Below.refl _ _⟩
  have e1 : (t == 1) = false := beq_eq_false_iff_ne.2 t1
  have e2 : (t == 2) = false := beq_eq_false_iff_ne.2 t2
  have e3 : (t == 3) = false := beq_eq_false_iff_ne.2 t3
  have e5 : (t == 5) = false := beq_eq_false_iff_ne.2 t5
  have e6 : (t == 6) = false := beq_eq_false_iff_ne.2 t6
  have e12 : (t == 12) = false := beq_eq_false_iff_ne.2 t12
  have e24 : (t == 24) = false := beq_eq_false_iff_ne.2 t24
  have HF : Hid (FB t b = true) := hide ((hFB t b).2 (fitp_other (by omega) b))
  clear t1 t2 t3 t5 t6 t12 t24
  go_enter Tryz.func56, Tryz.ntmps56
  go_wp2
  go_ret
  exact ⟨ret_bool HF.out.symm, Below.refl _ _⟩
end Go.Proofs.YtlddpjcacnahmaaGreatDoor
