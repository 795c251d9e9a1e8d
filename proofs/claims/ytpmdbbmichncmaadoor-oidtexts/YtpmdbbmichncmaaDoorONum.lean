/- Contract of apostilleref02.Number. -/
import Derived.Test.YtpmdbbmichncmaaDoorORead
namespace Go.Proofs.YtpmdbbmichncmaaDoor
open Go.RowKit
set_option linter.unusedVariables false

/-- the byte at a place of a text -/
def bt (l : List UInt8) (i : Nat) : Nat := (l[i]?.getD 0).toNat
/-- the number that digits spell -/
def valD (l : List UInt8) : Nat := l.foldl (fun n c => n * 10 + (c.toNat - 48)) 0
theorem valD_snoc (l : List UInt8) (c : UInt8) : valD (l ++ [c]) = valD l * 10 + (c.toNat - 48) := by simp [valD]
theorem valD_dg (n : Nat) : valD (dg n) = n := by
  induction n using Nat.strongRecOn with
  | ind n ih =>
    by_cases h : n < 10
    · rw [dg_low h]; show 0 * 10 + ((ch (48 + n)).toNat - 48) = n; rw [ch_nat (by omega)]; omega
    · rw [dg_high h, valD_snoc, ih (n / 10) (by omega), ch_nat (by omega)]; omega
theorem valD_take {l : List UInt8} {k : Nat} (h : k < l.length) : valD (l.take (k + 1)) = valD (l.take k) * 10 + (l[k].toNat - 48) := by
  rw [List.take_succ_eq_append_getElem h, valD_snoc]
theorem valD_lt (l : List UInt8) (h : ∀ c ∈ l, c.toNat ≤ 57) : ∀ k, k ≤ l.length → valD (l.take k) < 10 ^ k := by
  intro k
  induction k with
  | zero => intro _; simp [valD]
  | succ k ih =>
    intro hk
    rw [valD_take hk, Nat.pow_succ]
    have := ih (by omega)
    have := h l[k] (List.getElem_mem _)
    omega

/-- digits, and no more than 19 of them -/
abbrev Digs (l : List UInt8) : Prop := (∀ c ∈ l, 48 ≤ c.toNat ∧ c.toNat ≤ 57) ∧ l.length ≤ 19
/-- the number that a text is, if it is below 2^32 and its digits are just these -/
def numS (l : List UInt8) : Option Nat := if Digs l ∧ valD l ≤ 4294967295 ∧ dg (valD l) = l then some (valD l) else none
theorem numS_iff {l : List UInt8} {n : Nat} : numS l = some n ↔ (n ≤ 4294967295 ∧ l = dg n) := by
  unfold numS
  constructor
  · intro h
    split at h
    · rename_i hc
      cases h
      exact ⟨hc.2.1, hc.2.2.symm⟩
    · cases h
  · rintro ⟨h1, rfl⟩
    have hv := valD_dg n
    have hl := dg_len10 (n := n) (by omega)
    rw [hv, if_pos ⟨⟨dg_digit n, by omega⟩, h1, rfl⟩]
theorem numS_none {l : List UInt8} (h : ¬ (Digs l ∧ valD l ≤ 4294967295 ∧ dg (valD l) = l)) : numS l = none := by unfold numS; rw [if_neg h]
theorem numS_some {l : List UInt8} (h : Digs l ∧ valD l ≤ 4294967295 ∧ dg (valD l) = l) : numS l = some (valD l) := by unfold numS; rw [if_pos h]

/-- what Number tells: the number, or that there is none -/
def NumOut (l : List UInt8) (e : Ending) : Prop := ∃ (u : Nat) (ok : Bool), e = .returned (.tuple #[.int .u64 u, .bool ok]) ∧ ((ok = true ∧ numS l = some u ∧ u < 4294967296) ∨ (ok = false ∧ numS l = none))
theorem NumOut.no {l : List UInt8} (u : Nat) (h : numS l = none) : NumOut l (.returned (.tuple #[.int .u64 u, .bool false])) := ⟨u, false, rfl, .inr ⟨rfl, h⟩⟩
theorem NumOut.yes {l : List UInt8} (h : Digs l ∧ valD l ≤ 4294967295 ∧ dg (valD l) = l) : NumOut l (.returned (.tuple #[.int .u64 (valD l : Nat), .bool true])) := ⟨valD l, true, rfl, .inl ⟨rfl, numS_some h, by omega⟩⟩

set_option maxRecDepth 100000 in
set_option maxHeartbeats 2000000 in
theorem rnumber_any (l : List UInt8) (w : World) (hl : l.length ≤ 1000000) :
    Calls Tryd.prog 28 #[str l, .int .u64 4294967295] w fun e w' => NumOut l e ∧ Below w.heap.size w w' := by
  go_enter Tryd.func28, Tryd.ntmps28
  go_wp2
  go_loop [6, 7] (fun vn vi => ∃ (k n : Nat), k ≤ l.length ∧ k ≤ 19 ∧ vi = .int .i64 k ∧ vn = .int .u64 n ∧ Hid (valD (l.take k) = n) ∧ Hid (∀ c ∈ l.take k, 48 ≤ c.toNat ∧ c.toNat ≤ 57)) (fun _ i => l.length - (intOf i).toNat)
  case atStart => exact ⟨0, 0, Nat.zero_le _, by omega, rfl, rfl, hide rfl, hide (by simp)⟩
  case round =>
    obtain ⟨k, n, hk, hk19, rfl, rfl, HN, HA⟩ := hrel
    have hvl : n < 10 ^ k := by
      have := valD_lt (l.take k) (fun c hc => (HA.out c hc).2) k (by rw [List.length_take_of_le hk]; exact Nat.le_refl _)
      rw [List.take_take, Nat.min_self, HN.out] at this
      exact this
    by_cases hlt : k < l.length
    · obtain ⟨c, hc⟩ : ∃ c, (⟨l.toArray⟩ : ByteArray)[k]'(by simpa [ByteArray.size] using hlt) = c := ⟨_, rfl⟩
      have HC : Hid (l[k] = c) := hide hc
      have hmem : Hid (c ∈ l) := hide (by rw [← HC.out]; exact List.getElem_mem _)
      have hc256 : c.toNat < 256 := c.toNat_lt
      by_cases hlo : c.toNat < 48
      · have HNo : Hid (numS l = none) := hide (numS_none (fun h => by have := h.1.1 c hmem.out; omega))
        have g1 : (c.toNat : Int) < 48 := by omega
        go_wp2
        go_ret2
        exact ⟨NumOut.no 0 HNo.out, Below.refl _ _⟩
      by_cases hhi : 57 < c.toNat
      · have HNo : Hid (numS l = none) := hide (numS_none (fun h => by have := h.1.1 c hmem.out; omega))
        have g1 : ¬ (c.toNat : Int) < 48 := by omega
        have g2 : (57 : Int) < (c.toNat : Int) := by omega
        go_wp2
        go_ret2
        exact ⟨NumOut.no 0 HNo.out, Below.refl _ _⟩
      have g1 : ¬ (c.toNat : Int) < 48 := by omega
      have g2 : ¬ (57 : Int) < (c.toNat : Int) := by omega
      by_cases h18 : 18 < k
      · have HNo : Hid (numS l = none) := hide (numS_none (fun h => by have := h.1.2; omega))
        have g3 : (18 : Int) < (k : Int) := by omega
        go_wp2
        go_ret2
        exact ⟨NumOut.no 0 HNo.out, Below.refl _ _⟩
      have g3 : ¬ (18 : Int) < (k : Int) := by omega
      have hn18 : n < 1000000000000000000 := by
        have : 10 ^ k ≤ 10 ^ 18 := Nat.pow_le_pow_right (by decide) (by omega)
        omega
      clear hvl
      have HN2 : Hid (valD (l.take (k + 1)) = n * 10 + (c.toNat - 48)) := hide (by rw [valD_take hlt, HN.out, HC.out])
      have HA2 : Hid (∀ c ∈ l.take (k + 1), 48 ≤ c.toNat ∧ c.toNat ≤ 57) := hide (by
        rw [List.take_succ_eq_append_getElem hlt]
        intro d hd
        rcases List.mem_append.1 hd with h | h
        · exact HA.out d h
        · simp at h; subst h; rw [HC.out]; omega)
      have g4 : (0 : Int) ≤ (c.toNat : Int) - 48 := by omega
      have g5 : (n : Int) * 10 < 18446744073709551616 := by omega
      have g6 : (n : Int) * 10 + ((c.toNat : Int) - 48) < 18446744073709551616 := by omega
      have HV : Hid ((n : Int) * 10 + ((c.toNat : Int) - 48) = ((n * 10 + (c.toNat - 48) : Nat) : Int)) := hide (by omega)
      go_wp2
      exact ⟨⟨k + 1, n * 10 + (c.toNat - 48), by omega, by omega, by simp, by rw [HV.out], HN2, HA2⟩, by simp [intOf]; omega⟩
    · have hkk : l.take k = l := List.take_of_length_le (by omega)
      have hN := HN.out
      have hA := HA.out
      rw [hkk] at hN hA
      have HD : Hid (Digs l) := hide ⟨hA, by omega⟩
      subst hN
      clear HN HA hA hkk
      have hn64 : valD l < 18446744073709551616 := by
        have : 10 ^ k ≤ 10 ^ 19 := Nat.pow_le_pow_right (by decide) hk19
        omega
      by_cases hbig : valD l ≤ 4294967295
      · have g1 : (valD l : Int) ≤ 4294967295 := by omega
        by_cases heq : dg (valD l) = l
        · have HY : Hid (NumOut l (.returned (.tuple #[.int .u64 (valD l : Nat), .bool true]))) := hide (NumOut.yes ⟨HD.out, hbig, heq⟩)
          have hcall := rdigits_any (valD l) w hn64
          rw [heq] at hcall
          generalize valD l = n at *
          go_wp2_with (first | (go_at_call 30; refine hcall.mono ?_; rintro e w1 ⟨rfl, hb1⟩) | fail)
          go_ret2
          exact ⟨HY.out, hb1⟩
        · have HNo : Hid (numS l = none) := hide (numS_none (fun h => heq h.2.2))
          have hcall := rdigits_any (valD l) w hn64
          have hne : (dg (valD l) == l) = false := beq_eq_false_iff_ne.2 heq
          generalize dg (valD l) = dd at *
          generalize valD l = n at *
          go_wp2_with (first | (go_at_call 30; refine hcall.mono ?_; rintro e w1 ⟨rfl, hb1⟩) | fail)
          go_ret2
          exact ⟨NumOut.no _ HNo.out, hb1⟩
      · have HNo : Hid (numS l = none) := hide (numS_none (fun h => hbig h.2.1))
        have g1 : ¬ (valD l : Int) ≤ 4294967295 := by omega
        generalize valD l = n at *
        go_wp2
        go_ret2
        exact ⟨NumOut.no _ HNo.out, Below.refl _ _⟩
end Go.Proofs.YtpmdbbmichncmaaDoor
