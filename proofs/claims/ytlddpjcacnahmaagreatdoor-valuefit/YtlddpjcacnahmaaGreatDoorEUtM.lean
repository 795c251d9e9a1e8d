/- Plain facts on characters, for utf8.Valid. -/
import Derived.Test.YtlddpjcacnahmaaGreatDoorDUtf
import Derived.Lib.ValidLaws
import Derived.Lib.DecodeN
import Derived.Lib.EndianBits
import Derived.Laws.BitsAllLaws
import Derived.Deep.Draws
namespace Go.Proofs.YtlddpjcacnahmaaGreatDoor
open Go.RowKit
set_option linter.unusedVariables false

theorem contB_drop (b : List Nat) (i j : Nat) : contB (b.drop i) j = contB b (i + j) := by
  unfold contB
  rw [el_drop, List.length_drop]
  congr 1
  exact decide_eq_decide.2 (by omega)
theorem runeL_drop (b : List Nat) (i j : Nat) : runeL (b.drop i) j = runeL b (i + j) := by
  unfold runeL
  rw [el_drop, el_drop, contB_drop, contB_drop, contB_drop]
  rfl
theorem utfF_drop (b : List Nat) (i : Nat) : ∀ (f j : Nat), utfF f (b.drop i) j = utfF f b (i + j) := by
  intro f
  induction f with
  | zero => intro j; rfl
  | succ f ih =>
    intro j
    by_cases h : (b.drop i).length ≤ j
    · rw [utfF_end h, utfF_end (by rw [List.length_drop] at h; omega)]
    · have h' : ¬ b.length ≤ i + j := by rw [List.length_drop] at h; omega
      rw [utfF, if_neg h, utfF, if_neg h', runeL_drop]
      by_cases hz : runeL b (i + j) = 0
      · rw [if_pos hz, if_pos hz]
      · rw [if_neg hz, if_neg hz, ih, Nat.add_assoc]
theorem utfF_fuel (b : List Nat) : ∀ (f g i : Nat), b.length < f + i → b.length < g + i → utfF f b i = utfF g b i := by
  intro f
  induction f with
  | zero => intro g i hf hg; rw [utfF_end (by omega), utfF_end (by omega)]
  | succ f ih =>
    intro g i hf hg
    by_cases h : b.length ≤ i
    · rw [utfF_end h, utfF_end h]
    · obtain ⟨g', rfl⟩ : ∃ g', g = g' + 1 := ⟨g - 1, by omega⟩
      by_cases hz : runeL b i = 0
      · rw [utfF_bad (by omega) hz, utfF_bad (by omega) hz]
      · rw [utfF_step (by omega) hz, utfF_step (by omega) hz]
        exact ih _ _ (by omega) (by omega)
theorem utfB_nil : utfB [] = true := utfF_end (Nat.le_refl _)
theorem utfB_bad {b : List Nat} (h : 0 < b.length) (hz : runeL b 0 = 0) : utfB b = false := by
  unfold utfB
  rw [utfF_bad h hz]
theorem utfB_step {b : List Nat} {n : Nat} (h : 0 < b.length) (hn : n ≠ 0) (hr : runeL b 0 = n) : utfB (b.drop n) = utfB b := by
  unfold utfB
  rw [utfF_step h (by omega), hr, utfF_drop, Nat.zero_add]
  exact utfF_fuel _ _ _ _ (by rw [List.length_drop]; omega) (by omega)
/-- the first bytes are below 128 -/
def AscN (b : List Nat) (k : Nat) : Prop := ∀ i, i < k → el b i < 128
theorem utfB_one {b : List Nat} (h : 0 < b.length) (hc : el b 0 < 128) : utfB (b.drop 1) = utfB b :=
  utfB_step h (by omega) (by unfold runeL rune1N; rw [if_pos hc])
theorem utfB_asc : ∀ (k : Nat) (b : List Nat), k ≤ b.length → AscN b k → utfB (b.drop k) = utfB b
  | 0, b, _, _ => by simp
  | k + 1, b, hk, ha => by
    have h1 := utfB_asc k (b.drop 1) (by rw [List.length_drop]; omega) (fun i hi => by rw [el_drop]; exact ha (1 + i) (by omega))
    rw [List.drop_drop] at h1
    rw [show k + 1 = 1 + k by omega, h1, utfB_one (by omega) (ha 0 (by omega))]
theorem AscN.add {b : List Nat} {j k : Nat} (h : AscN b j) (h' : AscN (b.drop j) k) : AscN b (j + k) := by
  intro i hi
  by_cases hj : i < j
  · exact h i hj
  · have := h' (i - j) (by omega)
    rwa [el_drop, show j + (i - j) = i by omega] at this

/-- the number that the first eight bytes spell -/
def wd (l : List Nat) : Nat := el l 0 + el l 1 * 256 + el l 2 * 65536 + el l 3 * 16777216 + el l 4 * 4294967296 + el l 5 * 1099511627776 + el l 6 * 281474976710656 + el l 7 * 72057594037927936
theorem wd_lt {l : List Nat} (h : Under 256 l) : wd l < 18446744073709551616 := by
  have h0 := el_lt h (by decide) 0
  have h1 := el_lt h (by decide) 1
  have h2 := el_lt h (by decide) 2
  have h3 := el_lt h (by decide) 3
  have h4 := el_lt h (by decide) 4
  have h5 := el_lt h (by decide) 5
  have h6 := el_lt h (by decide) 6
  have h7 := el_lt h (by decide) 7
  unfold wd
  omega
theorem wd_asc {l : List Nat} (h : Under 256 l) (hz : wd l &&& 9259542123273814144 = 0) : AscN l 8 := by
  have h0 := el_lt h (by decide) 0
  have h1 := el_lt h (by decide) 1
  have h2 := el_lt h (by decide) 2
  have h3 := el_lt h (by decide) 3
  have h4 := el_lt h (by decide) 4
  have h5 := el_lt h (by decide) 5
  have h6 := el_lt h (by decide) 6
  have h7 := el_lt h (by decide) 7
  have e : ∀ x, x < 256 → (UInt8.ofNat x).toNat = x := fun x hx => by simp; omega
  have hm := Lib.leNat_mask [UInt8.ofNat (el l 0), UInt8.ofNat (el l 1), UInt8.ofNat (el l 2), UInt8.ofNat (el l 3), UInt8.ofNat (el l 4), UInt8.ofNat (el l 5), UInt8.ofNat (el l 6), UInt8.ofNat (el l 7)]
  have hw : Lib.leNat [UInt8.ofNat (el l 0), UInt8.ofNat (el l 1), UInt8.ofNat (el l 2), UInt8.ofNat (el l 3), UInt8.ofNat (el l 4), UInt8.ofNat (el l 5), UInt8.ofNat (el l 6), UInt8.ofNat (el l 7)] = wd l := by
    simp only [Lib.leNat, e _ h0, e _ h1, e _ h2, e _ h3, e _ h4, e _ h5, e _ h6, e _ h7]
    unfold wd
    omega
  rw [hw] at hm
  have h8 := hm.1 (by rw [show List.length [UInt8.ofNat (el l 0), UInt8.ofNat (el l 1), UInt8.ofNat (el l 2), UInt8.ofNat (el l 3), UInt8.ofNat (el l 4), UInt8.ofNat (el l 5), UInt8.ofNat (el l 6), UInt8.ofNat (el l 7)] = 8 from rfl, Lib.maskN8]; exact hz)
  have k0 := h8 _ (List.mem_cons_self)
  intro i hi
  have each : ∀ x, x < 256 → UInt8.ofNat x ∈ [UInt8.ofNat (el l 0), UInt8.ofNat (el l 1), UInt8.ofNat (el l 2), UInt8.ofNat (el l 3), UInt8.ofNat (el l 4), UInt8.ofNat (el l 5), UInt8.ofNat (el l 6), UInt8.ofNat (el l 7)] → x < 128 := fun x hx hm => by
    have := h8 _ hm
    rwa [e x hx] at this
  rcases (by omega : i = 0 ∨ i = 1 ∨ i = 2 ∨ i = 3 ∨ i = 4 ∨ i = 5 ∨ i = 6 ∨ i = 7) with rfl | rfl | rfl | rfl | rfl | rfl | rfl | rfl
  · exact each _ h0 (by simp)
  · exact each _ h1 (by simp)
  · exact each _ h2 (by simp)
  · exact each _ h3 (by simp)
  · exact each _ h4 (by simp)
  · exact each _ h5 (by simp)
  · exact each _ h6 (by simp)
  · exact each _ h7 (by simp)

theorem cont_iff {b : List Nat} {i : Nat} (h : i < b.length) : contB b i = true ↔ ¬ (el b i < 128 ∨ 191 < el b i) := by
  unfold contB
  rw [decide_eq_true h, Bool.true_and, decide_eq_true_eq]
  omega
theorem cont_no {b : List Nat} {i : Nat} (h : ¬ i < b.length) : contB b i = false := by
  unfold contB
  rw [decide_eq_false h, Bool.false_and]
/-- what the table says of a first byte, and the character's bytes -/
theorem lead_2 {b : List Nat} (hg : 128 ≤ el b 0) (hs : Lib.firstT (el b 0) % 8 = 2) :
    runeL b 0 = if b.length < 2 ∨ el b 1 < Lib.accLo (Lib.firstT (el b 0) / 16) ∨ Lib.accHi (Lib.firstT (el b 0) / 16) < el b 1 then 0 else 2 := by
  unfold runeL
  generalize el b 0 = c at *
  have hc : 194 ≤ c ∧ c < 224 ∧ Lib.firstT c = 2 := by
    unfold Lib.firstT at *
    (repeat' split at hs) <;> first | omega | (refine ⟨by omega, by omega, ?_⟩; (repeat' split) <;> omega)
  obtain ⟨h1, h2, h3⟩ := hc
  rw [h3, show Lib.accLo (2 / 16) = 128 from rfl, show Lib.accHi (2 / 16) = 191 from rfl]
  unfold rune1N
  rw [if_neg (by omega)]
  by_cases hl : 1 < b.length
  · by_cases ht : contB b (0 + 1) = true
    · rw [if_pos ⟨h1, by omega, ht⟩, if_neg (by have := (cont_iff (i := 0 + 1) (by omega)).1 ht; simp only [Nat.zero_add] at this; omega)]
    · rw [if_neg (by intro h; exact ht h.2.2), if_neg (by omega), if_neg (by omega), if_pos (by
        have : ¬ ¬ (el b (0 + 1) < 128 ∨ 191 < el b (0 + 1)) := fun h => ht ((cont_iff (by omega)).2 h)
        simp only [Nat.zero_add] at this
        omega)]
  · rw [if_neg (by rw [cont_no (by omega)]; simp), if_neg (by omega), if_neg (by omega), if_pos (by omega)]
theorem lead_3 {b : List Nat} (hu : Under 256 b) (hg : 128 ≤ el b 0) (hs : Lib.firstT (el b 0) % 8 = 3) :
    runeL b 0 = if b.length < 3 ∨ el b 1 < Lib.accLo (Lib.firstT (el b 0) / 16) ∨ Lib.accHi (Lib.firstT (el b 0) / 16) < el b 1 ∨ el b 2 < 128 ∨ 191 < el b 2 then 0 else 3 := by
  unfold runeL
  have hcu := el_lt hu (by decide) 0
  generalize el b 0 = c at *
  have hc : 224 ≤ c ∧ c < 240 ∧ Lib.firstT c = (if c = 224 then 19 else if c = 237 then 35 else 3) := by
    unfold Lib.firstT at *
    (repeat' split at hs) <;> first | omega | (refine ⟨by omega, by omega, ?_⟩; (repeat' split) <;> omega)
  obtain ⟨h1, h2, h3⟩ := hc
  have hlo : Lib.accLo (Lib.firstT c / 16) = if c = 224 then 160 else 128 := by
    rw [h3]; (repeat' split) <;> first | rfl | omega
  have hhi : Lib.accHi (Lib.firstT c / 16) = if c = 237 then 159 else 191 := by
    rw [h3]; (repeat' split) <;> first | rfl | omega
  rw [hlo, hhi]
  unfold rune1N
  rw [if_neg (by omega), if_neg (by omega)]
  simp only [Nat.zero_add]
  by_cases hl : 2 < b.length
  · have k1 := cont_iff (b := b) (i := 1) (by omega)
    have k2 := cont_iff (b := b) (i := 2) (by omega)
    by_cases hbad : b.length < 3 ∨ el b 1 < (if c = 224 then 160 else 128) ∨ (if c = 237 then 159 else 191) < el b 1 ∨ el b 2 < 128 ∨ 191 < el b 2
    · rw [if_pos hbad, if_neg (by
        rintro ⟨_, _, t1, t2, t3, t4⟩
        have m1 := k1.1 t1
        have m2 := k2.1 t2
        (repeat' split at hbad) <;> omega), if_neg (by omega)]
    · rw [if_neg hbad, if_pos (by
        have m1 : contB b 1 = true := k1.2 (by (repeat' split at hbad) <;> omega)
        have m2 : contB b 2 = true := k2.2 (by (repeat' split at hbad) <;> omega)
        refine ⟨h1, by omega, m1, m2, ?_, ?_⟩ <;> ((repeat' split at hbad) <;> omega))]
  · rw [if_neg (by rw [cont_no (i := 2) (by omega)]; simp), if_neg (by omega), if_pos (by omega)]
theorem lead_4 {b : List Nat} (hu : Under 256 b) (hg : 128 ≤ el b 0) (hs : Lib.firstT (el b 0) % 8 = 4) :
    runeL b 0 = if b.length < 4 ∨ el b 1 < Lib.accLo (Lib.firstT (el b 0) / 16) ∨ Lib.accHi (Lib.firstT (el b 0) / 16) < el b 1 ∨ el b 2 < 128 ∨ 191 < el b 2 ∨ el b 3 < 128 ∨ 191 < el b 3 then 0 else 4 := by
  unfold runeL
  have hcu := el_lt hu (by decide) 0
  generalize el b 0 = c at *
  have hc : 240 ≤ c ∧ c ≤ 244 ∧ Lib.firstT c = (if c = 240 then 52 else if c = 244 then 68 else 4) := by
    unfold Lib.firstT at *
    (repeat' split at hs) <;> first | omega | (refine ⟨by omega, by omega, ?_⟩; (repeat' split) <;> omega)
  obtain ⟨h1, h2, h3⟩ := hc
  have hlo : Lib.accLo (Lib.firstT c / 16) = if c = 240 then 144 else 128 := by
    rw [h3]; (repeat' split) <;> first | rfl | omega
  have hhi : Lib.accHi (Lib.firstT c / 16) = if c = 244 then 143 else 191 := by
    rw [h3]; (repeat' split) <;> first | rfl | omega
  rw [hlo, hhi]
  unfold rune1N
  rw [if_neg (by omega), if_neg (by omega), if_neg (by omega)]
  simp only [Nat.zero_add]
  by_cases hl : 3 < b.length
  · have k1 := cont_iff (b := b) (i := 1) (by omega)
    have k2 := cont_iff (b := b) (i := 2) (by omega)
    have k3 := cont_iff (b := b) (i := 3) (by omega)
    by_cases hbad : b.length < 4 ∨ el b 1 < (if c = 240 then 144 else 128) ∨ (if c = 244 then 143 else 191) < el b 1 ∨ el b 2 < 128 ∨ 191 < el b 2 ∨ el b 3 < 128 ∨ 191 < el b 3
    · rw [if_pos hbad, if_neg (by
        rintro ⟨_, _, t1, t2, t3, t4, t5⟩
        have m1 := k1.1 t1
        have m2 := k2.1 t2
        have m3 := k3.1 t3
        (repeat' split at hbad) <;> omega)]
    · rw [if_neg hbad, if_pos (by
        have m1 : contB b 1 = true := k1.2 (by (repeat' split at hbad) <;> omega)
        have m2 : contB b 2 = true := k2.2 (by (repeat' split at hbad) <;> omega)
        have m3 : contB b 3 = true := k3.2 (by (repeat' split at hbad) <;> omega)
        refine ⟨h1, by omega, m1, m2, m3, ?_, ?_⟩ <;> ((repeat' split at hbad) <;> omega))]
  · rw [if_neg (by rw [cont_no (i := 3) (by omega)]; simp), if_pos (by omega)]
theorem lead_no {b : List Nat} (hu : Under 256 b) (hg : 128 ≤ el b 0) (h2 : ¬ Lib.firstT (el b 0) % 8 = 2) (h3 : ¬ Lib.firstT (el b 0) % 8 = 3) (h4 : ¬ Lib.firstT (el b 0) % 8 = 4) : runeL b 0 = 0 := by
  unfold runeL
  have hcu := el_lt hu (by decide) 0
  generalize el b 0 = c at *
  have hc : c < 194 ∨ 244 < c := by
    unfold Lib.firstT at *
    (repeat' split at h2) <;> first | omega | (exfalso; simp at *; done) | (by_cases hx : c < 194; exact .inl hx; by_cases hy : 244 < c; exact .inr hy; exfalso; (repeat' split at h3) <;> (repeat' split at h4) <;> omega)
  unfold rune1N
  rw [if_neg (by omega), if_neg (by omega), if_neg (by omega), if_neg (by omega)]
end Go.Proofs.YtlddpjcacnahmaaGreatDoor

/- Contract of utf8.word. -/
namespace Go.Proofs.YtlddpjcacnahmaaGreatDoor
open Go.RowKit
set_option linter.unusedVariables false

set_option maxHeartbeats 8000000 in
set_option maxRecDepth 100000 in
theorem word_any (v : Value) (l : List Nat) (w : World) (h : Row .u8 256 w v l) (h8 : 8 ≤ l.length) :
    Calls Tryz.prog 164 #[v] w fun e w' => e = .returned (.int .u64 (wd l : Nat)) ∧ ∃ q, w' = w.drewN q := by
  have hu := h.under
  obtain ⟨a, cap, rfl, g1, g2, g3, g4⟩ := h
  unfold maxLen at g2
  obtain ⟨b, off, rfl, hc⟩ := g3 (by omega)
  have c0 : w.cell? ⟨b, off, none⟩ = some (.int .u8 (el l 0)) := hc 0 (by omega)
  have c1 := hc 1 (by omega)
  have c2 := hc 2 (by omega)
  have c3 := hc 3 (by omega)
  have c4 := hc 4 (by omega)
  have c5 := hc 5 (by omega)
  have c6 := hc 6 (by omega)
  have c7 := hc 7 (by omega)
  have l0 := el_lt hu (by decide) 0
  have l1 := el_lt hu (by decide) 1
  have l2 := el_lt hu (by decide) 2
  have l3 := el_lt hu (by decide) 3
  have l4 := el_lt hu (by decide) 4
  have l5 := el_lt hu (by decide) 5
  have l6 := el_lt hu (by decide) 6
  have l7 := el_lt hu (by decide) 7
  have HW : Hid (wd l = el l 0 + el l 1 * 256 + el l 2 * 65536 + el l 3 * 16777216 + el l 4 * 4294967296 + el l 5 * 1099511627776 + el l 6 * 281474976710656 + el l 7 * 72057594037927936) := hide rfl
  generalize el l 0 = x0 at *
  generalize el l 1 = x1 at *
  generalize el l 2 = x2 at *
  generalize el l 3 = x3 at *
  generalize el l 4 = x4 at *
  generalize el l 5 = x5 at *
  generalize el l 6 = x6 at *
  generalize el l 7 = x7 at *
  clear hc g3 hu g4
  generalize l.length = n at *
  have q0 : (0 : Int) < (n : Int) := by omega
  have p0 : 0 < n := by omega
  have q1 : (1 : Int) < (n : Int) := by omega
  have p1 : 1 < n := by omega
  have q2 : (2 : Int) < (n : Int) := by omega
  have p2 : 2 < n := by omega
  have q3 : (3 : Int) < (n : Int) := by omega
  have p3 : 3 < n := by omega
  have q4 : (4 : Int) < (n : Int) := by omega
  have p4 : 4 < n := by omega
  have q5 : (5 : Int) < (n : Int) := by omega
  have p5 : 5 < n := by omega
  have q6 : (6 : Int) < (n : Int) := by omega
  have p6 : 6 < n := by omega
  have q7 : (7 : Int) < (n : Int) := by omega
  have p7 : 7 < n := by omega
  go_enter Tryz.func164, Tryz.ntmps164
  go_wp2
  go_quiet (fail)
  go_wp2
  go_ret
  refine ⟨?_, _, rfl⟩
  simp (disch := omega) only [u64_or8, u64_or16, u64_or24, u64_or32, u64_or40, u64_or48, u64_or56]
  rw [HW.out]
  exact ret_int (by omega)
end Go.Proofs.YtlddpjcacnahmaaGreatDoor
