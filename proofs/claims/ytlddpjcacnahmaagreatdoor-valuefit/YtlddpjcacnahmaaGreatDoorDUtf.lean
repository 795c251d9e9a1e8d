/- Characters: the document's cont, rune1, Utf8. -/
import Derived.Test.YtlddpjcacnahmaaGreatDoorKit
namespace Go.Proofs.YtlddpjcacnahmaaGreatDoor
open Go.RowKit
set_option linter.unusedVariables false

/-- a byte that goes on with a character -/
def contB (b : List Nat) (i : Nat) : Bool := decide (i < b.length) && decide (el b i / 64 = 2)
theorem contB_lt {b : List Nat} {i : Nat} (h : contB b i = true) : i < b.length := by
  unfold contB at h
  rw [Bool.and_eq_true, decide_eq_true_eq] at h
  exact h.1
set_option maxHeartbeats 1000000 in
theorem rcont_any (v : Value) (b : List Nat) (i : Nat) (w : World) (h : Row .u8 256 w v b) (hi : i ≤ 2000000) :
    Calls Tryz.prog 145 #[v, .int .i64 i] w fun e w' => e = .returned (.bool (contB b i)) ∧ w' = w := by
  have hu := h.under
  obtain ⟨a, cap, rfl, h1, h2, h3, h4⟩ := h
  unfold maxLen at h2
  by_cases hlt : i < b.length
  · obtain ⟨bl, off, rfl, hc⟩ := h3 (by omega)
    have c1 := hc i hlt
    have hx := el_lt hu (by decide) i
    have HB : Hid (contB b i = decide (el b i / 64 = 2)) := hide (by unfold contB; rw [decide_eq_true hlt, Bool.true_and])
    generalize el b i = x at *
    clear hc
    go_enter Tryz.func145, Tryz.ntmps145
    go_wp2
    go_ret
    exact ⟨ret_bool (by rw [HB.out, Bool.eq_iff_iff]; simp; omega), rfl⟩
  · have HB : Hid (contB b i = false) := hide (by unfold contB; rw [decide_eq_false hlt, Bool.false_and])
    go_enter Tryz.func145, Tryz.ntmps145
    go_wp2
    go_ret
    exact ⟨ret_bool HB.out.symm, rfl⟩
/-- how many bytes a character has, by its first two, and by which of the next go on with it -/
def rune1N (c c1 : Nat) (t2 t3 t4 : Bool) : Nat :=
  if c < 128 then 1
  else if 194 ≤ c ∧ c ≤ 223 ∧ t2 = true then 2
  else if 224 ≤ c ∧ c ≤ 239 ∧ t2 = true ∧ t3 = true ∧ (c ≠ 224 ∨ 160 ≤ c1) ∧ (c ≠ 237 ∨ c1 < 160) then 3
  else if 240 ≤ c ∧ c ≤ 244 ∧ t2 = true ∧ t3 = true ∧ t4 = true ∧ (c ≠ 240 ∨ 144 ≤ c1) ∧ (c ≠ 244 ∨ c1 < 144) then 4 else 0
def runeL (b : List Nat) (i : Nat) : Nat := rune1N (el b i) (el b (i + 1)) (contB b (i + 1)) (contB b (i + 2)) (contB b (i + 3))
set_option maxHeartbeats 8000000 in
theorem rrune_any (v : Value) (b : List Nat) (i : Nat) (w : World) (h : Row .u8 256 w v b) (hi : i < b.length) (hl : b.length ≤ 1000000) :
    Calls Tryz.prog 122 #[v, .int .i64 i] w fun e w' => e = .returned (.int .i64 (runeL b i : Nat)) ∧ w' = w := by
  have h2 := rcont_any v b (i + 1) w h (by omega)
  have h3c := rcont_any v b (i + 2) w h (by omega)
  have h4c := rcont_any v b (i + 3) w h (by omega)
  have hu := h.under
  have hlt2 : contB b (i + 1) = true → i + 1 < b.length := contB_lt
  obtain ⟨a, cap, rfl, g1, g2, g3, g4⟩ := h
  unfold maxLen at g2
  obtain ⟨bl, off, rfl, hc⟩ := g3 (by omega)
  have k0 := hc i hi
  have k1 : contB b (i + 1) = true → w.cell? ⟨bl, off + (i + 1), none⟩ = some (.int .u8 (el b (i + 1))) := fun h => hc (i + 1) (hlt2 h)
  have hx := el_lt hu (by decide) i
  unfold runeL
  generalize el b i = c at *
  generalize el b (i + 1) = c1 at *
  generalize contB b (i + 1) = t2 at *
  generalize contB b (i + 2) = t3 at *
  generalize contB b (i + 3) = t4 at *
  have ei1 : ((i + 1 : Nat) : Int) = (i : Int) + 1 := by omega
  have ei2 : ((i + 2 : Nat) : Int) = (i : Int) + 2 := by omega
  have ei3 : ((i + 3 : Nat) : Int) = (i : Int) + 3 := by omega
  rw [ei1] at h2
  rw [ei2] at h3c
  rw [ei3] at h4c
  clear ei1 ei2 ei3 hc g3 hu g4
  by_cases hc0 : c ≤ 127
  · have q0 : (c : Int) < 128 := by omega
    have q0n : c < 128 := by omega
    have q1 : ¬ ((194 : Int) ≤ (c : Int)) := by omega
    have q1n : ¬ (194 ≤ c) := by omega
    have q1d : decide ((194 : Int) ≤ (c : Int)) = false := decide_eq_false (by omega)
    have q1e : decide (194 ≤ c) = false := decide_eq_false (by omega)
    have q2 : (c : Int) ≤ 223 := by omega
    have q2n : c ≤ 223 := by omega
    have q3 : ¬ ((224 : Int) ≤ (c : Int)) := by omega
    have q3n : ¬ (224 ≤ c) := by omega
    have q3d : decide ((224 : Int) ≤ (c : Int)) = false := decide_eq_false (by omega)
    have q3e : decide (224 ≤ c) = false := decide_eq_false (by omega)
    have q4 : (c : Int) ≤ 239 := by omega
    have q4n : c ≤ 239 := by omega
    have q5 : ¬ ((240 : Int) ≤ (c : Int)) := by omega
    have q5n : ¬ (240 ≤ c) := by omega
    have q5d : decide ((240 : Int) ≤ (c : Int)) = false := decide_eq_false (by omega)
    have q5e : decide (240 ≤ c) = false := decide_eq_false (by omega)
    have q6 : (c : Int) ≤ 244 := by omega
    have q6n : c ≤ 244 := by omega
    have z0 : ((c : Int) != 224) = true := by simp; omega
    have z1 : ((c : Int) != 237) = true := by simp; omega
    have z2 : ((c : Int) != 240) = true := by simp; omega
    have z3 : ((c : Int) != 244) = true := by simp; omega
    cases t2 with
    | false =>
      have HN : Hid (rune1N c c1 false t3 t4 = 1) := hide (by unfold rune1N; rw [if_pos (by omega)])
      go_enter Tryz.func122, Tryz.ntmps122
      go_wp2_with fail
      refine h2.mono ?_
      rintro e w2 ⟨rfl, rfl⟩
      go_wp2
      go_ret
      exact ⟨ret_int (by rw [HN.out]; rfl), rfl⟩
    | true =>
      have k1' := k1 rfl
      have HN : Hid (rune1N c c1 true t3 t4 = 1) := hide (by unfold rune1N; rw [if_pos (by omega)])
      go_enter Tryz.func122, Tryz.ntmps122
      go_wp2_with fail
      refine h2.mono ?_
      rintro e w2 ⟨rfl, rfl⟩
      go_wp2_with fail
      refine h3c.mono ?_
      rintro e w3 ⟨rfl, rfl⟩
      go_wp2
      go_ret
      exact ⟨ret_int (by rw [HN.out]; rfl), rfl⟩
  by_cases hc1 : c ≤ 193
  · have q0 : ¬ ((c : Int) < 128) := by omega
    have q0n : ¬ (c < 128) := by omega
    have q0d : decide ((c : Int) < 128) = false := decide_eq_false (by omega)
    have q0e : decide (c < 128) = false := decide_eq_false (by omega)
    have q1 : ¬ ((194 : Int) ≤ (c : Int)) := by omega
    have q1n : ¬ (194 ≤ c) := by omega
    have q1d : decide ((194 : Int) ≤ (c : Int)) = false := decide_eq_false (by omega)
    have q1e : decide (194 ≤ c) = false := decide_eq_false (by omega)
    have q2 : (c : Int) ≤ 223 := by omega
    have q2n : c ≤ 223 := by omega
    have q3 : ¬ ((224 : Int) ≤ (c : Int)) := by omega
    have q3n : ¬ (224 ≤ c) := by omega
    have q3d : decide ((224 : Int) ≤ (c : Int)) = false := decide_eq_false (by omega)
    have q3e : decide (224 ≤ c) = false := decide_eq_false (by omega)
    have q4 : (c : Int) ≤ 239 := by omega
    have q4n : c ≤ 239 := by omega
    have q5 : ¬ ((240 : Int) ≤ (c : Int)) := by omega
    have q5n : ¬ (240 ≤ c) := by omega
    have q5d : decide ((240 : Int) ≤ (c : Int)) = false := decide_eq_false (by omega)
    have q5e : decide (240 ≤ c) = false := decide_eq_false (by omega)
    have q6 : (c : Int) ≤ 244 := by omega
    have q6n : c ≤ 244 := by omega
    have z0 : ((c : Int) != 224) = true := by simp; omega
    have z1 : ((c : Int) != 237) = true := by simp; omega
    have z2 : ((c : Int) != 240) = true := by simp; omega
    have z3 : ((c : Int) != 244) = true := by simp; omega
    cases t2 with
    | false =>
      have HN : Hid (rune1N c c1 false t3 t4 = 0) := hide (by unfold rune1N; rw [if_neg (by omega), if_neg (fun h => by obtain ⟨h1, h2, h3⟩ := h; first | omega | (cases h3; done)), if_neg (fun h => by obtain ⟨h1, h2, h3, h4, h5, h6⟩ := h; first | omega | (cases h3; done) | (cases h4; done)), if_neg (fun h => by obtain ⟨h1, h2, h3, h4, h5, h6, h7⟩ := h; first | omega | (cases h3; done) | (cases h4; done) | (cases h5; done))])
      go_enter Tryz.func122, Tryz.ntmps122
      go_wp2_with fail
      refine h2.mono ?_
      rintro e w2 ⟨rfl, rfl⟩
      go_wp2
      go_ret
      exact ⟨ret_int (by rw [HN.out]; rfl), rfl⟩
    | true =>
      have k1' := k1 rfl
      have HN : Hid (rune1N c c1 true t3 t4 = 0) := hide (by unfold rune1N; rw [if_neg (by omega), if_neg (fun h => by obtain ⟨h1, h2, h3⟩ := h; first | omega | (cases h3; done)), if_neg (fun h => by obtain ⟨h1, h2, h3, h4, h5, h6⟩ := h; first | omega | (cases h3; done) | (cases h4; done)), if_neg (fun h => by obtain ⟨h1, h2, h3, h4, h5, h6, h7⟩ := h; first | omega | (cases h3; done) | (cases h4; done) | (cases h5; done))])
      go_enter Tryz.func122, Tryz.ntmps122
      go_wp2_with fail
      refine h2.mono ?_
      rintro e w2 ⟨rfl, rfl⟩
      go_wp2_with fail
      refine h3c.mono ?_
      rintro e w3 ⟨rfl, rfl⟩
      go_wp2
      go_ret
      exact ⟨ret_int (by rw [HN.out]; rfl), rfl⟩
  by_cases hc2 : c ≤ 223
  · have q0 : ¬ ((c : Int) < 128) := by omega
    have q0n : ¬ (c < 128) := by omega
    have q0d : decide ((c : Int) < 128) = false := decide_eq_false (by omega)
    have q0e : decide (c < 128) = false := decide_eq_false (by omega)
    have q1 : (194 : Int) ≤ (c : Int) := by omega
    have q1n : 194 ≤ c := by omega
    have q2 : (c : Int) ≤ 223 := by omega
    have q2n : c ≤ 223 := by omega
    have q3 : ¬ ((224 : Int) ≤ (c : Int)) := by omega
    have q3n : ¬ (224 ≤ c) := by omega
    have q3d : decide ((224 : Int) ≤ (c : Int)) = false := decide_eq_false (by omega)
    have q3e : decide (224 ≤ c) = false := decide_eq_false (by omega)
    have q4 : (c : Int) ≤ 239 := by omega
    have q4n : c ≤ 239 := by omega
    have q5 : ¬ ((240 : Int) ≤ (c : Int)) := by omega
    have q5n : ¬ (240 ≤ c) := by omega
    have q5d : decide ((240 : Int) ≤ (c : Int)) = false := decide_eq_false (by omega)
    have q5e : decide (240 ≤ c) = false := decide_eq_false (by omega)
    have q6 : (c : Int) ≤ 244 := by omega
    have q6n : c ≤ 244 := by omega
    have z0 : ((c : Int) != 224) = true := by simp; omega
    have z1 : ((c : Int) != 237) = true := by simp; omega
    have z2 : ((c : Int) != 240) = true := by simp; omega
    have z3 : ((c : Int) != 244) = true := by simp; omega
    cases t2 with
    | false =>
      have HN : Hid (rune1N c c1 false t3 t4 = 0) := hide (by unfold rune1N; rw [if_neg (by omega), if_neg (fun h => by obtain ⟨h1, h2, h3⟩ := h; first | omega | (cases h3; done)), if_neg (fun h => by obtain ⟨h1, h2, h3, h4, h5, h6⟩ := h; first | omega | (cases h3; done) | (cases h4; done)), if_neg (fun h => by obtain ⟨h1, h2, h3, h4, h5, h6, h7⟩ := h; first | omega | (cases h3; done) | (cases h4; done) | (cases h5; done))])
      go_enter Tryz.func122, Tryz.ntmps122
      go_wp2_with fail
      refine h2.mono ?_
      rintro e w2 ⟨rfl, rfl⟩
      go_wp2
      go_ret
      exact ⟨ret_int (by rw [HN.out]; rfl), rfl⟩
    | true =>
      have k1' := k1 rfl
      have HN : Hid (rune1N c c1 true t3 t4 = 2) := hide (by unfold rune1N; rw [if_neg (by omega), if_pos ⟨by omega, by omega, rfl⟩])
      go_enter Tryz.func122, Tryz.ntmps122
      go_wp2_with fail
      refine h2.mono ?_
      rintro e w2 ⟨rfl, rfl⟩
      go_wp2_with fail
      refine h3c.mono ?_
      rintro e w3 ⟨rfl, rfl⟩
      go_wp2
      go_ret
      exact ⟨ret_int (by rw [HN.out]; rfl), rfl⟩
  by_cases hc3 : c ≤ 224
  · have q0 : ¬ ((c : Int) < 128) := by omega
    have q0n : ¬ (c < 128) := by omega
    have q0d : decide ((c : Int) < 128) = false := decide_eq_false (by omega)
    have q0e : decide (c < 128) = false := decide_eq_false (by omega)
    have q1 : (194 : Int) ≤ (c : Int) := by omega
    have q1n : 194 ≤ c := by omega
    have q2 : ¬ ((c : Int) ≤ 223) := by omega
    have q2n : ¬ (c ≤ 223) := by omega
    have q2d : decide ((c : Int) ≤ 223) = false := decide_eq_false (by omega)
    have q2e : decide (c ≤ 223) = false := decide_eq_false (by omega)
    have q3 : (224 : Int) ≤ (c : Int) := by omega
    have q3n : 224 ≤ c := by omega
    have q4 : (c : Int) ≤ 239 := by omega
    have q4n : c ≤ 239 := by omega
    have q5 : ¬ ((240 : Int) ≤ (c : Int)) := by omega
    have q5n : ¬ (240 ≤ c) := by omega
    have q5d : decide ((240 : Int) ≤ (c : Int)) = false := decide_eq_false (by omega)
    have q5e : decide (240 ≤ c) = false := decide_eq_false (by omega)
    have q6 : (c : Int) ≤ 244 := by omega
    have q6n : c ≤ 244 := by omega
    have z0 : ((c : Int) != 224) = false := by simp; omega
    have z1 : ((c : Int) != 237) = true := by simp; omega
    have z2 : ((c : Int) != 240) = true := by simp; omega
    have z3 : ((c : Int) != 244) = true := by simp; omega
    cases t2 with
    | false =>
      have HN : Hid (rune1N c c1 false t3 t4 = 0) := hide (by unfold rune1N; rw [if_neg (by omega), if_neg (fun h => by obtain ⟨h1, h2, h3⟩ := h; first | omega | (cases h3; done)), if_neg (fun h => by obtain ⟨h1, h2, h3, h4, h5, h6⟩ := h; first | omega | (cases h3; done) | (cases h4; done)), if_neg (fun h => by obtain ⟨h1, h2, h3, h4, h5, h6, h7⟩ := h; first | omega | (cases h3; done) | (cases h4; done) | (cases h5; done))])
      go_enter Tryz.func122, Tryz.ntmps122
      go_wp2_with fail
      refine h2.mono ?_
      rintro e w2 ⟨rfl, rfl⟩
      go_wp2
      go_ret
      exact ⟨ret_int (by rw [HN.out]; rfl), rfl⟩
    | true =>
      have k1' := k1 rfl
      have hlt' := hlt2 rfl
      cases t3 with
      | false =>
        have HN : Hid (rune1N c c1 true false t4 = 0) := hide (by unfold rune1N; rw [if_neg (by omega), if_neg (fun h => by obtain ⟨h1, h2, h3⟩ := h; first | omega | (cases h3; done)), if_neg (fun h => by obtain ⟨h1, h2, h3, h4, h5, h6⟩ := h; first | omega | (cases h3; done) | (cases h4; done)), if_neg (fun h => by obtain ⟨h1, h2, h3, h4, h5, h6, h7⟩ := h; first | omega | (cases h3; done) | (cases h4; done) | (cases h5; done))])
        go_enter Tryz.func122, Tryz.ntmps122
        go_wp2_with fail
        refine h2.mono ?_
        rintro e w2 ⟨rfl, rfl⟩
        go_wp2_with fail
        refine h3c.mono ?_
        rintro e w3 ⟨rfl, rfl⟩
        go_wp2
        go_ret
        exact ⟨ret_int (by rw [HN.out]; rfl), rfl⟩
      | true =>
        by_cases hy : 160 ≤ c1
        · skip
          have y0 : (160 : Int) ≤ (c1 : Int) := by omega
          have y1 : ¬ ((c1 : Int) < 160) := by omega
          have y2 : decide ((c1 : Int) < 160) = false := decide_eq_false (by omega)
          have y3 : decide (c1 < 160) = false := decide_eq_false (by omega)
          have HN : Hid (rune1N c c1 true true t4 = 3) := hide (by unfold rune1N; rw [if_neg (by omega), if_neg (fun h => by obtain ⟨h1, h2, h3⟩ := h; first | omega | (cases h3; done)), if_pos ⟨by omega, by omega, rfl, rfl, by omega, by omega⟩])
          go_enter Tryz.func122, Tryz.ntmps122
          go_wp2_with fail
          refine h2.mono ?_
          rintro e w2 ⟨rfl, rfl⟩
          go_wp2_with fail
          refine h3c.mono ?_
          rintro e w3 ⟨rfl, rfl⟩
          go_wp2
          go_ret
          exact ⟨ret_int (by rw [HN.out]; rfl), rfl⟩
        · skip
          have y0 : (c1 : Int) < 160 := by omega
          have y1 : ¬ ((160 : Int) ≤ (c1 : Int)) := by omega
          have y2 : decide ((160 : Int) ≤ (c1 : Int)) = false := decide_eq_false (by omega)
          have y3 : decide (160 ≤ c1) = false := decide_eq_false (by omega)
          have HN : Hid (rune1N c c1 true true t4 = 0) := hide (by unfold rune1N; rw [if_neg (by omega), if_neg (fun h => by obtain ⟨h1, h2, h3⟩ := h; first | omega | (cases h3; done)), if_neg (fun h => by obtain ⟨h1, h2, h3, h4, h5, h6⟩ := h; first | omega | (cases h3; done) | (cases h4; done)), if_neg (fun h => by obtain ⟨h1, h2, h3, h4, h5, h6, h7⟩ := h; first | omega | (cases h3; done) | (cases h4; done) | (cases h5; done))])
          go_enter Tryz.func122, Tryz.ntmps122
          go_wp2_with fail
          refine h2.mono ?_
          rintro e w2 ⟨rfl, rfl⟩
          go_wp2_with fail
          refine h3c.mono ?_
          rintro e w3 ⟨rfl, rfl⟩
          go_wp2
          go_ret
          exact ⟨ret_int (by rw [HN.out]; rfl), rfl⟩
  by_cases hc4 : c ≤ 236
  · have q0 : ¬ ((c : Int) < 128) := by omega
    have q0n : ¬ (c < 128) := by omega
    have q0d : decide ((c : Int) < 128) = false := decide_eq_false (by omega)
    have q0e : decide (c < 128) = false := decide_eq_false (by omega)
    have q1 : (194 : Int) ≤ (c : Int) := by omega
    have q1n : 194 ≤ c := by omega
    have q2 : ¬ ((c : Int) ≤ 223) := by omega
    have q2n : ¬ (c ≤ 223) := by omega
    have q2d : decide ((c : Int) ≤ 223) = false := decide_eq_false (by omega)
    have q2e : decide (c ≤ 223) = false := decide_eq_false (by omega)
    have q3 : (224 : Int) ≤ (c : Int) := by omega
    have q3n : 224 ≤ c := by omega
    have q4 : (c : Int) ≤ 239 := by omega
    have q4n : c ≤ 239 := by omega
    have q5 : ¬ ((240 : Int) ≤ (c : Int)) := by omega
    have q5n : ¬ (240 ≤ c) := by omega
    have q5d : decide ((240 : Int) ≤ (c : Int)) = false := decide_eq_false (by omega)
    have q5e : decide (240 ≤ c) = false := decide_eq_false (by omega)
    have q6 : (c : Int) ≤ 244 := by omega
    have q6n : c ≤ 244 := by omega
    have z0 : ((c : Int) != 224) = true := by simp; omega
    have z1 : ((c : Int) != 237) = true := by simp; omega
    have z2 : ((c : Int) != 240) = true := by simp; omega
    have z3 : ((c : Int) != 244) = true := by simp; omega
    cases t2 with
    | false =>
      have HN : Hid (rune1N c c1 false t3 t4 = 0) := hide (by unfold rune1N; rw [if_neg (by omega), if_neg (fun h => by obtain ⟨h1, h2, h3⟩ := h; first | omega | (cases h3; done)), if_neg (fun h => by obtain ⟨h1, h2, h3, h4, h5, h6⟩ := h; first | omega | (cases h3; done) | (cases h4; done)), if_neg (fun h => by obtain ⟨h1, h2, h3, h4, h5, h6, h7⟩ := h; first | omega | (cases h3; done) | (cases h4; done) | (cases h5; done))])
      go_enter Tryz.func122, Tryz.ntmps122
      go_wp2_with fail
      refine h2.mono ?_
      rintro e w2 ⟨rfl, rfl⟩
      go_wp2
      go_ret
      exact ⟨ret_int (by rw [HN.out]; rfl), rfl⟩
    | true =>
      have k1' := k1 rfl
      have hlt' := hlt2 rfl
      cases t3 with
      | false =>
        have HN : Hid (rune1N c c1 true false t4 = 0) := hide (by unfold rune1N; rw [if_neg (by omega), if_neg (fun h => by obtain ⟨h1, h2, h3⟩ := h; first | omega | (cases h3; done)), if_neg (fun h => by obtain ⟨h1, h2, h3, h4, h5, h6⟩ := h; first | omega | (cases h3; done) | (cases h4; done)), if_neg (fun h => by obtain ⟨h1, h2, h3, h4, h5, h6, h7⟩ := h; first | omega | (cases h3; done) | (cases h4; done) | (cases h5; done))])
        go_enter Tryz.func122, Tryz.ntmps122
        go_wp2_with fail
        refine h2.mono ?_
        rintro e w2 ⟨rfl, rfl⟩
        go_wp2_with fail
        refine h3c.mono ?_
        rintro e w3 ⟨rfl, rfl⟩
        go_wp2
        go_ret
        exact ⟨ret_int (by rw [HN.out]; rfl), rfl⟩
      | true =>
        have HN : Hid (rune1N c c1 true true t4 = 3) := hide (by unfold rune1N; rw [if_neg (by omega), if_neg (fun h => by obtain ⟨h1, h2, h3⟩ := h; first | omega | (cases h3; done)), if_pos ⟨by omega, by omega, rfl, rfl, by omega, by omega⟩])
        go_enter Tryz.func122, Tryz.ntmps122
        go_wp2_with fail
        refine h2.mono ?_
        rintro e w2 ⟨rfl, rfl⟩
        go_wp2_with fail
        refine h3c.mono ?_
        rintro e w3 ⟨rfl, rfl⟩
        go_wp2
        go_ret
        exact ⟨ret_int (by rw [HN.out]; rfl), rfl⟩
  by_cases hc5 : c ≤ 237
  · have q0 : ¬ ((c : Int) < 128) := by omega
    have q0n : ¬ (c < 128) := by omega
    have q0d : decide ((c : Int) < 128) = false := decide_eq_false (by omega)
    have q0e : decide (c < 128) = false := decide_eq_false (by omega)
    have q1 : (194 : Int) ≤ (c : Int) := by omega
    have q1n : 194 ≤ c := by omega
    have q2 : ¬ ((c : Int) ≤ 223) := by omega
    have q2n : ¬ (c ≤ 223) := by omega
    have q2d : decide ((c : Int) ≤ 223) = false := decide_eq_false (by omega)
    have q2e : decide (c ≤ 223) = false := decide_eq_false (by omega)
    have q3 : (224 : Int) ≤ (c : Int) := by omega
    have q3n : 224 ≤ c := by omega
    have q4 : (c : Int) ≤ 239 := by omega
    have q4n : c ≤ 239 := by omega
    have q5 : ¬ ((240 : Int) ≤ (c : Int)) := by omega
    have q5n : ¬ (240 ≤ c) := by omega
    have q5d : decide ((240 : Int) ≤ (c : Int)) = false := decide_eq_false (by omega)
    have q5e : decide (240 ≤ c) = false := decide_eq_false (by omega)
    have q6 : (c : Int) ≤ 244 := by omega
    have q6n : c ≤ 244 := by omega
    have z0 : ((c : Int) != 224) = true := by simp; omega
    have z1 : ((c : Int) != 237) = false := by simp; omega
    have z2 : ((c : Int) != 240) = true := by simp; omega
    have z3 : ((c : Int) != 244) = true := by simp; omega
    cases t2 with
    | false =>
      have HN : Hid (rune1N c c1 false t3 t4 = 0) := hide (by unfold rune1N; rw [if_neg (by omega), if_neg (fun h => by obtain ⟨h1, h2, h3⟩ := h; first | omega | (cases h3; done)), if_neg (fun h => by obtain ⟨h1, h2, h3, h4, h5, h6⟩ := h; first | omega | (cases h3; done) | (cases h4; done)), if_neg (fun h => by obtain ⟨h1, h2, h3, h4, h5, h6, h7⟩ := h; first | omega | (cases h3; done) | (cases h4; done) | (cases h5; done))])
      go_enter Tryz.func122, Tryz.ntmps122
      go_wp2_with fail
      refine h2.mono ?_
      rintro e w2 ⟨rfl, rfl⟩
      go_wp2
      go_ret
      exact ⟨ret_int (by rw [HN.out]; rfl), rfl⟩
    | true =>
      have k1' := k1 rfl
      have hlt' := hlt2 rfl
      cases t3 with
      | false =>
        have HN : Hid (rune1N c c1 true false t4 = 0) := hide (by unfold rune1N; rw [if_neg (by omega), if_neg (fun h => by obtain ⟨h1, h2, h3⟩ := h; first | omega | (cases h3; done)), if_neg (fun h => by obtain ⟨h1, h2, h3, h4, h5, h6⟩ := h; first | omega | (cases h3; done) | (cases h4; done)), if_neg (fun h => by obtain ⟨h1, h2, h3, h4, h5, h6, h7⟩ := h; first | omega | (cases h3; done) | (cases h4; done) | (cases h5; done))])
        go_enter Tryz.func122, Tryz.ntmps122
        go_wp2_with fail
        refine h2.mono ?_
        rintro e w2 ⟨rfl, rfl⟩
        go_wp2_with fail
        refine h3c.mono ?_
        rintro e w3 ⟨rfl, rfl⟩
        go_wp2
        go_ret
        exact ⟨ret_int (by rw [HN.out]; rfl), rfl⟩
      | true =>
        by_cases hy : 160 ≤ c1
        · skip
          have y0 : (160 : Int) ≤ (c1 : Int) := by omega
          have y1 : ¬ ((c1 : Int) < 160) := by omega
          have y2 : decide ((c1 : Int) < 160) = false := decide_eq_false (by omega)
          have y3 : decide (c1 < 160) = false := decide_eq_false (by omega)
          have HN : Hid (rune1N c c1 true true t4 = 0) := hide (by unfold rune1N; rw [if_neg (by omega), if_neg (fun h => by obtain ⟨h1, h2, h3⟩ := h; first | omega | (cases h3; done)), if_neg (fun h => by obtain ⟨h1, h2, h3, h4, h5, h6⟩ := h; first | omega | (cases h3; done) | (cases h4; done)), if_neg (fun h => by obtain ⟨h1, h2, h3, h4, h5, h6, h7⟩ := h; first | omega | (cases h3; done) | (cases h4; done) | (cases h5; done))])
          go_enter Tryz.func122, Tryz.ntmps122
          go_wp2_with fail
          refine h2.mono ?_
          rintro e w2 ⟨rfl, rfl⟩
          go_wp2_with fail
          refine h3c.mono ?_
          rintro e w3 ⟨rfl, rfl⟩
          go_wp2
          go_ret
          exact ⟨ret_int (by rw [HN.out]; rfl), rfl⟩
        · skip
          have y0 : (c1 : Int) < 160 := by omega
          have y1 : ¬ ((160 : Int) ≤ (c1 : Int)) := by omega
          have y2 : decide ((160 : Int) ≤ (c1 : Int)) = false := decide_eq_false (by omega)
          have y3 : decide (160 ≤ c1) = false := decide_eq_false (by omega)
          have HN : Hid (rune1N c c1 true true t4 = 3) := hide (by unfold rune1N; rw [if_neg (by omega), if_neg (fun h => by obtain ⟨h1, h2, h3⟩ := h; first | omega | (cases h3; done)), if_pos ⟨by omega, by omega, rfl, rfl, by omega, by omega⟩])
          go_enter Tryz.func122, Tryz.ntmps122
          go_wp2_with fail
          refine h2.mono ?_
          rintro e w2 ⟨rfl, rfl⟩
          go_wp2_with fail
          refine h3c.mono ?_
          rintro e w3 ⟨rfl, rfl⟩
          go_wp2
          go_ret
          exact ⟨ret_int (by rw [HN.out]; rfl), rfl⟩
  by_cases hc6 : c ≤ 239
  · have q0 : ¬ ((c : Int) < 128) := by omega
    have q0n : ¬ (c < 128) := by omega
    have q0d : decide ((c : Int) < 128) = false := decide_eq_false (by omega)
    have q0e : decide (c < 128) = false := decide_eq_false (by omega)
    have q1 : (194 : Int) ≤ (c : Int) := by omega
    have q1n : 194 ≤ c := by omega
    have q2 : ¬ ((c : Int) ≤ 223) := by omega
    have q2n : ¬ (c ≤ 223) := by omega
    have q2d : decide ((c : Int) ≤ 223) = false := decide_eq_false (by omega)
    have q2e : decide (c ≤ 223) = false := decide_eq_false (by omega)
    have q3 : (224 : Int) ≤ (c : Int) := by omega
    have q3n : 224 ≤ c := by omega
    have q4 : (c : Int) ≤ 239 := by omega
    have q4n : c ≤ 239 := by omega
    have q5 : ¬ ((240 : Int) ≤ (c : Int)) := by omega
    have q5n : ¬ (240 ≤ c) := by omega
    have q5d : decide ((240 : Int) ≤ (c : Int)) = false := decide_eq_false (by omega)
    have q5e : decide (240 ≤ c) = false := decide_eq_false (by omega)
    have q6 : (c : Int) ≤ 244 := by omega
    have q6n : c ≤ 244 := by omega
    have z0 : ((c : Int) != 224) = true := by simp; omega
    have z1 : ((c : Int) != 237) = true := by simp; omega
    have z2 : ((c : Int) != 240) = true := by simp; omega
    have z3 : ((c : Int) != 244) = true := by simp; omega
    cases t2 with
    | false =>
      have HN : Hid (rune1N c c1 false t3 t4 = 0) := hide (by unfold rune1N; rw [if_neg (by omega), if_neg (fun h => by obtain ⟨h1, h2, h3⟩ := h; first | omega | (cases h3; done)), if_neg (fun h => by obtain ⟨h1, h2, h3, h4, h5, h6⟩ := h; first | omega | (cases h3; done) | (cases h4; done)), if_neg (fun h => by obtain ⟨h1, h2, h3, h4, h5, h6, h7⟩ := h; first | omega | (cases h3; done) | (cases h4; done) | (cases h5; done))])
      go_enter Tryz.func122, Tryz.ntmps122
      go_wp2_with fail
      refine h2.mono ?_
      rintro e w2 ⟨rfl, rfl⟩
      go_wp2
      go_ret
      exact ⟨ret_int (by rw [HN.out]; rfl), rfl⟩
    | true =>
      have k1' := k1 rfl
      have hlt' := hlt2 rfl
      cases t3 with
      | false =>
        have HN : Hid (rune1N c c1 true false t4 = 0) := hide (by unfold rune1N; rw [if_neg (by omega), if_neg (fun h => by obtain ⟨h1, h2, h3⟩ := h; first | omega | (cases h3; done)), if_neg (fun h => by obtain ⟨h1, h2, h3, h4, h5, h6⟩ := h; first | omega | (cases h3; done) | (cases h4; done)), if_neg (fun h => by obtain ⟨h1, h2, h3, h4, h5, h6, h7⟩ := h; first | omega | (cases h3; done) | (cases h4; done) | (cases h5; done))])
        go_enter Tryz.func122, Tryz.ntmps122
        go_wp2_with fail
        refine h2.mono ?_
        rintro e w2 ⟨rfl, rfl⟩
        go_wp2_with fail
        refine h3c.mono ?_
        rintro e w3 ⟨rfl, rfl⟩
        go_wp2
        go_ret
        exact ⟨ret_int (by rw [HN.out]; rfl), rfl⟩
      | true =>
        have HN : Hid (rune1N c c1 true true t4 = 3) := hide (by unfold rune1N; rw [if_neg (by omega), if_neg (fun h => by obtain ⟨h1, h2, h3⟩ := h; first | omega | (cases h3; done)), if_pos ⟨by omega, by omega, rfl, rfl, by omega, by omega⟩])
        go_enter Tryz.func122, Tryz.ntmps122
        go_wp2_with fail
        refine h2.mono ?_
        rintro e w2 ⟨rfl, rfl⟩
        go_wp2_with fail
        refine h3c.mono ?_
        rintro e w3 ⟨rfl, rfl⟩
        go_wp2
        go_ret
        exact ⟨ret_int (by rw [HN.out]; rfl), rfl⟩
  by_cases hc7 : c ≤ 240
  · have q0 : ¬ ((c : Int) < 128) := by omega
    have q0n : ¬ (c < 128) := by omega
    have q0d : decide ((c : Int) < 128) = false := decide_eq_false (by omega)
    have q0e : decide (c < 128) = false := decide_eq_false (by omega)
    have q1 : (194 : Int) ≤ (c : Int) := by omega
    have q1n : 194 ≤ c := by omega
    have q2 : ¬ ((c : Int) ≤ 223) := by omega
    have q2n : ¬ (c ≤ 223) := by omega
    have q2d : decide ((c : Int) ≤ 223) = false := decide_eq_false (by omega)
    have q2e : decide (c ≤ 223) = false := decide_eq_false (by omega)
    have q3 : (224 : Int) ≤ (c : Int) := by omega
    have q3n : 224 ≤ c := by omega
    have q4 : ¬ ((c : Int) ≤ 239) := by omega
    have q4n : ¬ (c ≤ 239) := by omega
    have q4d : decide ((c : Int) ≤ 239) = false := decide_eq_false (by omega)
    have q4e : decide (c ≤ 239) = false := decide_eq_false (by omega)
    have q5 : (240 : Int) ≤ (c : Int) := by omega
    have q5n : 240 ≤ c := by omega
    have q6 : (c : Int) ≤ 244 := by omega
    have q6n : c ≤ 244 := by omega
    have z0 : ((c : Int) != 224) = true := by simp; omega
    have z1 : ((c : Int) != 237) = true := by simp; omega
    have z2 : ((c : Int) != 240) = false := by simp; omega
    have z3 : ((c : Int) != 244) = true := by simp; omega
    cases t2 with
    | false =>
      have HN : Hid (rune1N c c1 false t3 t4 = 0) := hide (by unfold rune1N; rw [if_neg (by omega), if_neg (fun h => by obtain ⟨h1, h2, h3⟩ := h; first | omega | (cases h3; done)), if_neg (fun h => by obtain ⟨h1, h2, h3, h4, h5, h6⟩ := h; first | omega | (cases h3; done) | (cases h4; done)), if_neg (fun h => by obtain ⟨h1, h2, h3, h4, h5, h6, h7⟩ := h; first | omega | (cases h3; done) | (cases h4; done) | (cases h5; done))])
      go_enter Tryz.func122, Tryz.ntmps122
      go_wp2_with fail
      refine h2.mono ?_
      rintro e w2 ⟨rfl, rfl⟩
      go_wp2
      go_ret
      exact ⟨ret_int (by rw [HN.out]; rfl), rfl⟩
    | true =>
      have k1' := k1 rfl
      have hlt' := hlt2 rfl
      cases t3 with
      | false =>
        have HN : Hid (rune1N c c1 true false t4 = 0) := hide (by unfold rune1N; rw [if_neg (by omega), if_neg (fun h => by obtain ⟨h1, h2, h3⟩ := h; first | omega | (cases h3; done)), if_neg (fun h => by obtain ⟨h1, h2, h3, h4, h5, h6⟩ := h; first | omega | (cases h3; done) | (cases h4; done)), if_neg (fun h => by obtain ⟨h1, h2, h3, h4, h5, h6, h7⟩ := h; first | omega | (cases h3; done) | (cases h4; done) | (cases h5; done))])
        go_enter Tryz.func122, Tryz.ntmps122
        go_wp2_with fail
        refine h2.mono ?_
        rintro e w2 ⟨rfl, rfl⟩
        go_wp2_with fail
        refine h3c.mono ?_
        rintro e w3 ⟨rfl, rfl⟩
        go_wp2
        go_ret
        exact ⟨ret_int (by rw [HN.out]; rfl), rfl⟩
      | true =>
        cases t4 with
        | false =>
          have HN : Hid (rune1N c c1 true true false = 0) := hide (by unfold rune1N; rw [if_neg (by omega), if_neg (fun h => by obtain ⟨h1, h2, h3⟩ := h; first | omega | (cases h3; done)), if_neg (fun h => by obtain ⟨h1, h2, h3, h4, h5, h6⟩ := h; first | omega | (cases h3; done) | (cases h4; done)), if_neg (fun h => by obtain ⟨h1, h2, h3, h4, h5, h6, h7⟩ := h; first | omega | (cases h3; done) | (cases h4; done) | (cases h5; done))])
          go_enter Tryz.func122, Tryz.ntmps122
          go_wp2_with fail
          refine h2.mono ?_
          rintro e w2 ⟨rfl, rfl⟩
          go_wp2_with fail
          refine h3c.mono ?_
          rintro e w3 ⟨rfl, rfl⟩
          go_wp2_with fail
          refine h4c.mono ?_
          rintro e w4 ⟨rfl, rfl⟩
          go_wp2
          go_ret
          exact ⟨ret_int (by rw [HN.out]; rfl), rfl⟩
        | true =>
          by_cases hy : 144 ≤ c1
          · skip
            have y0 : (144 : Int) ≤ (c1 : Int) := by omega
            have y1 : ¬ ((c1 : Int) < 144) := by omega
            have y2 : decide ((c1 : Int) < 144) = false := decide_eq_false (by omega)
            have y3 : decide (c1 < 144) = false := decide_eq_false (by omega)
            have HN : Hid (rune1N c c1 true true true = 4) := hide (by unfold rune1N; rw [if_neg (by omega), if_neg (fun h => by obtain ⟨h1, h2, h3⟩ := h; first | omega | (cases h3; done)), if_neg (fun h => by obtain ⟨h1, h2, h3, h4, h5, h6⟩ := h; first | omega | (cases h3; done) | (cases h4; done)), if_pos ⟨by omega, by omega, rfl, rfl, rfl, by omega, by omega⟩])
            go_enter Tryz.func122, Tryz.ntmps122
            go_wp2_with fail
            refine h2.mono ?_
            rintro e w2 ⟨rfl, rfl⟩
            go_wp2_with fail
            refine h3c.mono ?_
            rintro e w3 ⟨rfl, rfl⟩
            go_wp2_with fail
            refine h4c.mono ?_
            rintro e w4 ⟨rfl, rfl⟩
            go_wp2
            go_ret
            exact ⟨ret_int (by rw [HN.out]; rfl), rfl⟩
          · skip
            have y0 : (c1 : Int) < 144 := by omega
            have y1 : ¬ ((144 : Int) ≤ (c1 : Int)) := by omega
            have y2 : decide ((144 : Int) ≤ (c1 : Int)) = false := decide_eq_false (by omega)
            have y3 : decide (144 ≤ c1) = false := decide_eq_false (by omega)
            have HN : Hid (rune1N c c1 true true true = 0) := hide (by unfold rune1N; rw [if_neg (by omega), if_neg (fun h => by obtain ⟨h1, h2, h3⟩ := h; first | omega | (cases h3; done)), if_neg (fun h => by obtain ⟨h1, h2, h3, h4, h5, h6⟩ := h; first | omega | (cases h3; done) | (cases h4; done)), if_neg (fun h => by obtain ⟨h1, h2, h3, h4, h5, h6, h7⟩ := h; first | omega | (cases h3; done) | (cases h4; done) | (cases h5; done))])
            go_enter Tryz.func122, Tryz.ntmps122
            go_wp2_with fail
            refine h2.mono ?_
            rintro e w2 ⟨rfl, rfl⟩
            go_wp2_with fail
            refine h3c.mono ?_
            rintro e w3 ⟨rfl, rfl⟩
            go_wp2_with fail
            refine h4c.mono ?_
            rintro e w4 ⟨rfl, rfl⟩
            go_wp2
            go_ret
            exact ⟨ret_int (by rw [HN.out]; rfl), rfl⟩
  by_cases hc8 : c ≤ 243
  · have q0 : ¬ ((c : Int) < 128) := by omega
    have q0n : ¬ (c < 128) := by omega
    have q0d : decide ((c : Int) < 128) = false := decide_eq_false (by omega)
    have q0e : decide (c < 128) = false := decide_eq_false (by omega)
    have q1 : (194 : Int) ≤ (c : Int) := by omega
    have q1n : 194 ≤ c := by omega
    have q2 : ¬ ((c : Int) ≤ 223) := by omega
    have q2n : ¬ (c ≤ 223) := by omega
    have q2d : decide ((c : Int) ≤ 223) = false := decide_eq_false (by omega)
    have q2e : decide (c ≤ 223) = false := decide_eq_false (by omega)
    have q3 : (224 : Int) ≤ (c : Int) := by omega
    have q3n : 224 ≤ c := by omega
    have q4 : ¬ ((c : Int) ≤ 239) := by omega
    have q4n : ¬ (c ≤ 239) := by omega
    have q4d : decide ((c : Int) ≤ 239) = false := decide_eq_false (by omega)
    have q4e : decide (c ≤ 239) = false := decide_eq_false (by omega)
    have q5 : (240 : Int) ≤ (c : Int) := by omega
    have q5n : 240 ≤ c := by omega
    have q6 : (c : Int) ≤ 244 := by omega
    have q6n : c ≤ 244 := by omega
    have z0 : ((c : Int) != 224) = true := by simp; omega
    have z1 : ((c : Int) != 237) = true := by simp; omega
    have z2 : ((c : Int) != 240) = true := by simp; omega
    have z3 : ((c : Int) != 244) = true := by simp; omega
    cases t2 with
    | false =>
      have HN : Hid (rune1N c c1 false t3 t4 = 0) := hide (by unfold rune1N; rw [if_neg (by omega), if_neg (fun h => by obtain ⟨h1, h2, h3⟩ := h; first | omega | (cases h3; done)), if_neg (fun h => by obtain ⟨h1, h2, h3, h4, h5, h6⟩ := h; first | omega | (cases h3; done) | (cases h4; done)), if_neg (fun h => by obtain ⟨h1, h2, h3, h4, h5, h6, h7⟩ := h; first | omega | (cases h3; done) | (cases h4; done) | (cases h5; done))])
      go_enter Tryz.func122, Tryz.ntmps122
      go_wp2_with fail
      refine h2.mono ?_
      rintro e w2 ⟨rfl, rfl⟩
      go_wp2
      go_ret
      exact ⟨ret_int (by rw [HN.out]; rfl), rfl⟩
    | true =>
      have k1' := k1 rfl
      have hlt' := hlt2 rfl
      cases t3 with
      | false =>
        have HN : Hid (rune1N c c1 true false t4 = 0) := hide (by unfold rune1N; rw [if_neg (by omega), if_neg (fun h => by obtain ⟨h1, h2, h3⟩ := h; first | omega | (cases h3; done)), if_neg (fun h => by obtain ⟨h1, h2, h3, h4, h5, h6⟩ := h; first | omega | (cases h3; done) | (cases h4; done)), if_neg (fun h => by obtain ⟨h1, h2, h3, h4, h5, h6, h7⟩ := h; first | omega | (cases h3; done) | (cases h4; done) | (cases h5; done))])
        go_enter Tryz.func122, Tryz.ntmps122
        go_wp2_with fail
        refine h2.mono ?_
        rintro e w2 ⟨rfl, rfl⟩
        go_wp2_with fail
        refine h3c.mono ?_
        rintro e w3 ⟨rfl, rfl⟩
        go_wp2
        go_ret
        exact ⟨ret_int (by rw [HN.out]; rfl), rfl⟩
      | true =>
        cases t4 with
        | false =>
          have HN : Hid (rune1N c c1 true true false = 0) := hide (by unfold rune1N; rw [if_neg (by omega), if_neg (fun h => by obtain ⟨h1, h2, h3⟩ := h; first | omega | (cases h3; done)), if_neg (fun h => by obtain ⟨h1, h2, h3, h4, h5, h6⟩ := h; first | omega | (cases h3; done) | (cases h4; done)), if_neg (fun h => by obtain ⟨h1, h2, h3, h4, h5, h6, h7⟩ := h; first | omega | (cases h3; done) | (cases h4; done) | (cases h5; done))])
          go_enter Tryz.func122, Tryz.ntmps122
          go_wp2_with fail
          refine h2.mono ?_
          rintro e w2 ⟨rfl, rfl⟩
          go_wp2_with fail
          refine h3c.mono ?_
          rintro e w3 ⟨rfl, rfl⟩
          go_wp2_with fail
          refine h4c.mono ?_
          rintro e w4 ⟨rfl, rfl⟩
          go_wp2
          go_ret
          exact ⟨ret_int (by rw [HN.out]; rfl), rfl⟩
        | true =>
          have HN : Hid (rune1N c c1 true true true = 4) := hide (by unfold rune1N; rw [if_neg (by omega), if_neg (fun h => by obtain ⟨h1, h2, h3⟩ := h; first | omega | (cases h3; done)), if_neg (fun h => by obtain ⟨h1, h2, h3, h4, h5, h6⟩ := h; first | omega | (cases h3; done) | (cases h4; done)), if_pos ⟨by omega, by omega, rfl, rfl, rfl, by omega, by omega⟩])
          go_enter Tryz.func122, Tryz.ntmps122
          go_wp2_with fail
          refine h2.mono ?_
          rintro e w2 ⟨rfl, rfl⟩
          go_wp2_with fail
          refine h3c.mono ?_
          rintro e w3 ⟨rfl, rfl⟩
          go_wp2_with fail
          refine h4c.mono ?_
          rintro e w4 ⟨rfl, rfl⟩
          go_wp2
          go_ret
          exact ⟨ret_int (by rw [HN.out]; rfl), rfl⟩
  by_cases hc9 : c ≤ 244
  · have q0 : ¬ ((c : Int) < 128) := by omega
    have q0n : ¬ (c < 128) := by omega
    have q0d : decide ((c : Int) < 128) = false := decide_eq_false (by omega)
    have q0e : decide (c < 128) = false := decide_eq_false (by omega)
    have q1 : (194 : Int) ≤ (c : Int) := by omega
    have q1n : 194 ≤ c := by omega
    have q2 : ¬ ((c : Int) ≤ 223) := by omega
    have q2n : ¬ (c ≤ 223) := by omega
    have q2d : decide ((c : Int) ≤ 223) = false := decide_eq_false (by omega)
    have q2e : decide (c ≤ 223) = false := decide_eq_false (by omega)
    have q3 : (224 : Int) ≤ (c : Int) := by omega
    have q3n : 224 ≤ c := by omega
    have q4 : ¬ ((c : Int) ≤ 239) := by omega
    have q4n : ¬ (c ≤ 239) := by omega
    have q4d : decide ((c : Int) ≤ 239) = false := decide_eq_false (by omega)
    have q4e : decide (c ≤ 239) = false := decide_eq_false (by omega)
    have q5 : (240 : Int) ≤ (c : Int) := by omega
    have q5n : 240 ≤ c := by omega
    have q6 : (c : Int) ≤ 244 := by omega
    have q6n : c ≤ 244 := by omega
    have z0 : ((c : Int) != 224) = true := by simp; omega
    have z1 : ((c : Int) != 237) = true := by simp; omega
    have z2 : ((c : Int) != 240) = true := by simp; omega
    have z3 : ((c : Int) != 244) = false := by simp; omega
    cases t2 with
    | false =>
      have HN : Hid (rune1N c c1 false t3 t4 = 0) := hide (by unfold rune1N; rw [if_neg (by omega), if_neg (fun h => by obtain ⟨h1, h2, h3⟩ := h; first | omega | (cases h3; done)), if_neg (fun h => by obtain ⟨h1, h2, h3, h4, h5, h6⟩ := h; first | omega | (cases h3; done) | (cases h4; done)), if_neg (fun h => by obtain ⟨h1, h2, h3, h4, h5, h6, h7⟩ := h; first | omega | (cases h3; done) | (cases h4; done) | (cases h5; done))])
      go_enter Tryz.func122, Tryz.ntmps122
      go_wp2_with fail
      refine h2.mono ?_
      rintro e w2 ⟨rfl, rfl⟩
      go_wp2
      go_ret
      exact ⟨ret_int (by rw [HN.out]; rfl), rfl⟩
    | true =>
      have k1' := k1 rfl
      have hlt' := hlt2 rfl
      cases t3 with
      | false =>
        have HN : Hid (rune1N c c1 true false t4 = 0) := hide (by unfold rune1N; rw [if_neg (by omega), if_neg (fun h => by obtain ⟨h1, h2, h3⟩ := h; first | omega | (cases h3; done)), if_neg (fun h => by obtain ⟨h1, h2, h3, h4, h5, h6⟩ := h; first | omega | (cases h3; done) | (cases h4; done)), if_neg (fun h => by obtain ⟨h1, h2, h3, h4, h5, h6, h7⟩ := h; first | omega | (cases h3; done) | (cases h4; done) | (cases h5; done))])
        go_enter Tryz.func122, Tryz.ntmps122
        go_wp2_with fail
        refine h2.mono ?_
        rintro e w2 ⟨rfl, rfl⟩
        go_wp2_with fail
        refine h3c.mono ?_
        rintro e w3 ⟨rfl, rfl⟩
        go_wp2
        go_ret
        exact ⟨ret_int (by rw [HN.out]; rfl), rfl⟩
      | true =>
        cases t4 with
        | false =>
          have HN : Hid (rune1N c c1 true true false = 0) := hide (by unfold rune1N; rw [if_neg (by omega), if_neg (fun h => by obtain ⟨h1, h2, h3⟩ := h; first | omega | (cases h3; done)), if_neg (fun h => by obtain ⟨h1, h2, h3, h4, h5, h6⟩ := h; first | omega | (cases h3; done) | (cases h4; done)), if_neg (fun h => by obtain ⟨h1, h2, h3, h4, h5, h6, h7⟩ := h; first | omega | (cases h3; done) | (cases h4; done) | (cases h5; done))])
          go_enter Tryz.func122, Tryz.ntmps122
          go_wp2_with fail
          refine h2.mono ?_
          rintro e w2 ⟨rfl, rfl⟩
          go_wp2_with fail
          refine h3c.mono ?_
          rintro e w3 ⟨rfl, rfl⟩
          go_wp2_with fail
          refine h4c.mono ?_
          rintro e w4 ⟨rfl, rfl⟩
          go_wp2
          go_ret
          exact ⟨ret_int (by rw [HN.out]; rfl), rfl⟩
        | true =>
          by_cases hy : 144 ≤ c1
          · skip
            have y0 : (144 : Int) ≤ (c1 : Int) := by omega
            have y1 : ¬ ((c1 : Int) < 144) := by omega
            have y2 : decide ((c1 : Int) < 144) = false := decide_eq_false (by omega)
            have y3 : decide (c1 < 144) = false := decide_eq_false (by omega)
            have HN : Hid (rune1N c c1 true true true = 0) := hide (by unfold rune1N; rw [if_neg (by omega), if_neg (fun h => by obtain ⟨h1, h2, h3⟩ := h; first | omega | (cases h3; done)), if_neg (fun h => by obtain ⟨h1, h2, h3, h4, h5, h6⟩ := h; first | omega | (cases h3; done) | (cases h4; done)), if_neg (fun h => by obtain ⟨h1, h2, h3, h4, h5, h6, h7⟩ := h; first | omega | (cases h3; done) | (cases h4; done) | (cases h5; done))])
            go_enter Tryz.func122, Tryz.ntmps122
            go_wp2_with fail
            refine h2.mono ?_
            rintro e w2 ⟨rfl, rfl⟩
            go_wp2_with fail
            refine h3c.mono ?_
            rintro e w3 ⟨rfl, rfl⟩
            go_wp2_with fail
            refine h4c.mono ?_
            rintro e w4 ⟨rfl, rfl⟩
            go_wp2
            go_ret
            exact ⟨ret_int (by rw [HN.out]; rfl), rfl⟩
          · skip
            have y0 : (c1 : Int) < 144 := by omega
            have y1 : ¬ ((144 : Int) ≤ (c1 : Int)) := by omega
            have y2 : decide ((144 : Int) ≤ (c1 : Int)) = false := decide_eq_false (by omega)
            have y3 : decide (144 ≤ c1) = false := decide_eq_false (by omega)
            have HN : Hid (rune1N c c1 true true true = 4) := hide (by unfold rune1N; rw [if_neg (by omega), if_neg (fun h => by obtain ⟨h1, h2, h3⟩ := h; first | omega | (cases h3; done)), if_neg (fun h => by obtain ⟨h1, h2, h3, h4, h5, h6⟩ := h; first | omega | (cases h3; done) | (cases h4; done)), if_pos ⟨by omega, by omega, rfl, rfl, rfl, by omega, by omega⟩])
            go_enter Tryz.func122, Tryz.ntmps122
            go_wp2_with fail
            refine h2.mono ?_
            rintro e w2 ⟨rfl, rfl⟩
            go_wp2_with fail
            refine h3c.mono ?_
            rintro e w3 ⟨rfl, rfl⟩
            go_wp2_with fail
            refine h4c.mono ?_
            rintro e w4 ⟨rfl, rfl⟩
            go_wp2
            go_ret
            exact ⟨ret_int (by rw [HN.out]; rfl), rfl⟩
  have q0 : ¬ ((c : Int) < 128) := by omega
  have q0n : ¬ (c < 128) := by omega
  have q0d : decide ((c : Int) < 128) = false := decide_eq_false (by omega)
  have q0e : decide (c < 128) = false := decide_eq_false (by omega)
  have q1 : (194 : Int) ≤ (c : Int) := by omega
  have q1n : 194 ≤ c := by omega
  have q2 : ¬ ((c : Int) ≤ 223) := by omega
  have q2n : ¬ (c ≤ 223) := by omega
  have q2d : decide ((c : Int) ≤ 223) = false := decide_eq_false (by omega)
  have q2e : decide (c ≤ 223) = false := decide_eq_false (by omega)
  have q3 : (224 : Int) ≤ (c : Int) := by omega
  have q3n : 224 ≤ c := by omega
  have q4 : ¬ ((c : Int) ≤ 239) := by omega
  have q4n : ¬ (c ≤ 239) := by omega
  have q4d : decide ((c : Int) ≤ 239) = false := decide_eq_false (by omega)
  have q4e : decide (c ≤ 239) = false := decide_eq_false (by omega)
  have q5 : (240 : Int) ≤ (c : Int) := by omega
  have q5n : 240 ≤ c := by omega
  have q6 : ¬ ((c : Int) ≤ 244) := by omega
  have q6n : ¬ (c ≤ 244) := by omega
  have q6d : decide ((c : Int) ≤ 244) = false := decide_eq_false (by omega)
  have q6e : decide (c ≤ 244) = false := decide_eq_false (by omega)
  have z0 : ((c : Int) != 224) = true := by simp; omega
  have z1 : ((c : Int) != 237) = true := by simp; omega
  have z2 : ((c : Int) != 240) = true := by simp; omega
  have z3 : ((c : Int) != 244) = true := by simp; omega
  cases t2 with
  | false =>
    have HN : Hid (rune1N c c1 false t3 t4 = 0) := hide (by unfold rune1N; rw [if_neg (by omega), if_neg (fun h => by obtain ⟨h1, h2, h3⟩ := h; first | omega | (cases h3; done)), if_neg (fun h => by obtain ⟨h1, h2, h3, h4, h5, h6⟩ := h; first | omega | (cases h3; done) | (cases h4; done)), if_neg (fun h => by obtain ⟨h1, h2, h3, h4, h5, h6, h7⟩ := h; first | omega | (cases h3; done) | (cases h4; done) | (cases h5; done))])
    go_enter Tryz.func122, Tryz.ntmps122
    go_wp2_with fail
    refine h2.mono ?_
    rintro e w2 ⟨rfl, rfl⟩
    go_wp2
    go_ret
    exact ⟨ret_int (by rw [HN.out]; rfl), rfl⟩
  | true =>
    have k1' := k1 rfl
    have HN : Hid (rune1N c c1 true t3 t4 = 0) := hide (by unfold rune1N; rw [if_neg (by omega), if_neg (fun h => by obtain ⟨h1, h2, h3⟩ := h; first | omega | (cases h3; done)), if_neg (fun h => by obtain ⟨h1, h2, h3, h4, h5, h6⟩ := h; first | omega | (cases h3; done) | (cases h4; done)), if_neg (fun h => by obtain ⟨h1, h2, h3, h4, h5, h6, h7⟩ := h; first | omega | (cases h3; done) | (cases h4; done) | (cases h5; done))])
    go_enter Tryz.func122, Tryz.ntmps122
    go_wp2_with fail
    refine h2.mono ?_
    rintro e w2 ⟨rfl, rfl⟩
    go_wp2_with fail
    refine h3c.mono ?_
    rintro e w3 ⟨rfl, rfl⟩
    go_wp2
    go_ret
    exact ⟨ret_int (by rw [HN.out]; rfl), rfl⟩

/-- are bytes characters, from a place on? (so many steps at most) -/
def utfF : Nat → List Nat → Nat → Bool
  | 0, _, _ => true
  | f + 1, b, i => if b.length ≤ i then true else if runeL b i = 0 then false else utfF f b (i + runeL b i)
def utfB (b : List Nat) : Bool := utfF (b.length + 1) b 0
theorem utfF_end {f : Nat} {b : List Nat} {i : Nat} (h : b.length ≤ i) : utfF f b i = true := by
  cases f with
  | zero => rfl
  | succ f => rw [utfF, if_pos h]
theorem utfF_step {f : Nat} {b : List Nat} {i : Nat} (h : i < b.length) (hr : runeL b i ≠ 0) : utfF (f + 1) b i = utfF f b (i + runeL b i) := by rw [utfF, if_neg (by omega), if_neg hr]
theorem utfF_bad {f : Nat} {b : List Nat} {i : Nat} (h : i < b.length) (hr : runeL b i = 0) : utfF (f + 1) b i = false := by rw [utfF, if_neg (by omega), if_pos hr]
theorem rune_le (c c1 : Nat) (t2 t3 t4 : Bool) : rune1N c c1 t2 t3 t4 ≤ 4 := by
  unfold rune1N
  split
  · omega
  · split
    · omega
    · split
      · omega
      · split <;> omega
theorem runeL_le (b : List Nat) (i : Nat) : runeL b i ≤ 4 := rune_le _ _ _ _ _

set_option maxHeartbeats 1000000 in
theorem rutf_any (v : Value) (b : List Nat) (w : World) (h : Row .u8 256 w v b) (hl : b.length ≤ 1000000) :
    Calls Tryz.prog 99 #[v] w fun e w' => e = .returned (.bool (utfB b)) ∧ w' = w := by
  have h' := h
  obtain ⟨a, cap, rfl, g1, g2, g3, g4⟩ := h
  unfold maxLen at g2
  go_enter Tryz.func99, Tryz.ntmps99
  go_wp2
  go_loop [3] (fun i => ∃ k : Nat, k ≤ b.length + 4 ∧ i = .int .i64 k ∧ Hid (∃ f, b.length < f + k ∧ utfB b = utfF f b k)) (fun i => b.length + 4 - (intOf i).toNat)
  case atStart => exact ⟨0, by omega, rfl, hide ⟨b.length + 1, by omega, rfl⟩⟩
  case round =>
    obtain ⟨k, hk, rfl, HF⟩ := hrel
    by_cases hlt : k < b.length
    · have hcall := rrune_any _ b k w h' hlt hl
      have hle := runeL_le b k
      by_cases hz : runeL b k = 0
      · have HB : Hid (utfB b = false) := hide (by
          obtain ⟨f, hf, he⟩ := HF.out
          obtain ⟨f', rfl⟩ : ∃ f', f = f' + 1 := ⟨f - 1, by omega⟩
          rw [he, utfF_bad hlt hz])
        rw [hz] at hcall
        clear hz hle
        go_wp2_with fail
        refine hcall.mono ?_
        rintro e w1 ⟨rfl, rfl⟩
        go_wp2
        go_ret
        exact ⟨ret_bool HB.out.symm, rfl⟩
      · have HB : Hid (∃ f, b.length < f + (k + runeL b k) ∧ utfB b = utfF f b (k + runeL b k)) := hide (by
          obtain ⟨f, hf, he⟩ := HF.out
          obtain ⟨f', rfl⟩ : ∃ f', f = f' + 1 := ⟨f - 1, by omega⟩
          exact ⟨f', by omega, by rw [he, utfF_step hlt hz]⟩)
        generalize runeL b k = r at *
        have hz0 : ((r : Int) == 0) = false := beq_eq_false_iff_ne.2 (by omega)
        have hpos : 0 < r := by omega
        clear hz HF
        go_wp2_with fail
        refine hcall.mono ?_
        rintro e w1 ⟨rfl, rfl⟩
        clear hcall
        go_wp2
        go_round
        case rel => exact ⟨k + r, by omega, by go_num, HB⟩
        case measure => simp [intOf]; omega
    · have HB : Hid (utfB b = true) := hide (by
        obtain ⟨f, hf, he⟩ := HF.out
        rw [he, utfF_end (by omega)])
      go_wp2
      go_ret
      exact ⟨ret_bool HB.out.symm, rfl⟩
end Go.Proofs.YtlddpjcacnahmaaGreatDoor
