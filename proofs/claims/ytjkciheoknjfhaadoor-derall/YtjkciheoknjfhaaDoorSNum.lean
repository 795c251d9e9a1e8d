/- Contract of apostilleref03.number, and plain facts on its numbers. -/
import Derived.Test.YtjkciheoknjfhaaDoorSRea
namespace Go.Proofs.YtjkciheoknjfhaaDoor
open Go.RowKit
set_option linter.unusedVariables false

/-- digits alone -/
def Dgs (l : List UInt8) : Prop := ∀ c ∈ l, 48 ≤ c.toNat ∧ c.toNat ≤ 57
/-- the number that digits spell -/
def vd (l : List UInt8) : Nat := l.foldl (fun n c => n * 10 + (c.toNat - 48)) 0
/-- what number tells -/
def NumT (l : List UInt8) (v : Int) : Prop := (Dgs l ∧ v = (vd l : Int)) ∨ (¬ Dgs l ∧ v = -1)
theorem vd_snoc (l : List UInt8) (c : UInt8) : vd (l ++ [c]) = vd l * 10 + (c.toNat - 48) := by simp [vd]
theorem vd_take {l : List UInt8} {k : Nat} (h : k < l.length) : vd (l.take (k + 1)) = vd (l.take k) * 10 + (l[k].toNat - 48) := by
  rw [List.take_succ_eq_append_getElem h, vd_snoc]
theorem vd_lt (l : List UInt8) (h : Dgs l) : ∀ k, k ≤ l.length → vd (l.take k) < 10 ^ k := by
  intro k
  induction k with
  | zero => intro _; simp [vd]
  | succ k ih =>
    intro hk
    rw [vd_take hk, Nat.pow_succ]
    have := ih (by omega)
    have := h l[k] (List.getElem_mem _)
    omega

set_option maxRecDepth 100000 in
set_option maxHeartbeats 2000000 in
theorem srnumber_any (l : List UInt8) (w : World) (hl : l.length ≤ 14) :
    Calls Tryd.prog 64 #[str l] w fun e w' => (∃ v : Int, e = .returned (.int .i64 v) ∧ NumT l v) ∧ w' = w := by
  go_enter Tryd.func64, Tryd.ntmps64
  go_wp2
  go_loop [3, 4] (fun vn vi => ∃ (k n : Nat), k ≤ l.length ∧ vi = .int .i64 k ∧ vn = .int .i64 n ∧ n < 100000000000000 ∧ Hid (vd (l.take k) = n) ∧ Hid (Dgs (l.take k))) (fun _ i => l.length - (intOf i).toNat)
  case atStart => exact ⟨0, 0, Nat.zero_le _, rfl, rfl, by omega, hide rfl, hide (fun c hc => by simp at hc)⟩
  case round =>
    obtain ⟨k, n, hk, rfl, rfl, hn, HN, HA⟩ := hrel
    by_cases hlt : k < l.length
    · obtain ⟨c, hc⟩ : ∃ c, (⟨l.toArray⟩ : ByteArray)[k]'(by simpa [ByteArray.size] using hlt) = c := ⟨_, rfl⟩
      have HC : Hid (l[k] = c) := hide hc
      have hmem : Hid (c ∈ l) := hide (by rw [← HC.out]; exact List.getElem_mem _)
      have hc256 : c.toNat < 256 := c.toNat_lt
      by_cases hlo : c.toNat < 48
      · have HNo : Hid (NumT l (-1)) := hide (.inr ⟨fun h => by have := h c hmem.out; omega, rfl⟩)
        have g1 : (c.toNat : Int) < 48 := by omega
        go_wp2
        go_ret
        exact ⟨⟨_, rfl, HNo.out⟩, rfl⟩
      by_cases hhi : 57 < c.toNat
      · have HNo : Hid (NumT l (-1)) := hide (.inr ⟨fun h => by have := h c hmem.out; omega, rfl⟩)
        have g1 : ¬ (c.toNat : Int) < 48 := by omega
        have g2 : (57 : Int) < (c.toNat : Int) := by omega
        go_wp2
        go_ret
        exact ⟨⟨_, rfl, HNo.out⟩, rfl⟩
      have g1 : ¬ (c.toNat : Int) < 48 := by omega
      have g2 : ¬ (57 : Int) < (c.toNat : Int) := by omega
      have HN2 : Hid (vd (l.take (k + 1)) = n * 10 + (c.toNat - 48)) := hide (by rw [vd_take hlt, HN.out, HC.out])
      have HA2 : Hid (Dgs (l.take (k + 1))) := hide (by
        rw [List.take_succ_eq_append_getElem hlt]
        intro d hd
        rcases List.mem_append.1 hd with h | h
        · exact HA.out d h
        · simp at h; subst h; rw [HC.out]; omega)
      have hlt2 : n * 10 + (c.toNat - 48) < 100000000000000 := by
        have h1 := vd_lt (l.take (k + 1)) HA2.out (k + 1) (by rw [List.length_take_of_le hlt]; exact Nat.le_refl _)
        rw [List.take_take, Nat.min_self, HN2.out] at h1
        have h2 : 10 ^ (k + 1) ≤ 10 ^ 14 := Nat.pow_le_pow_right (by decide) (by omega)
        omega
      have g4 : (0 : Int) ≤ (c.toNat : Int) - 48 := by omega
      have HV : Hid ((n : Int) * 10 + ((c.toNat : Int) - 48) = ((n * 10 + (c.toNat - 48) : Nat) : Int)) := hide (by omega)
      go_wp2
      exact ⟨⟨k + 1, n * 10 + (c.toNat - 48), by omega, by simp, by rw [HV.out], hlt2, HN2, HA2⟩, by simp [intOf]; omega⟩
    · have hkk : l.take k = l := List.take_of_length_le (by omega)
      have hN := HN.out
      have hA := HA.out
      rw [hkk] at hN hA
      have HY : Hid (NumT l (n : Int)) := hide (.inl ⟨hA, by rw [hN]⟩)
      clear HN HA hA hkk hN
      go_wp2
      go_ret
      exact ⟨⟨_, rfl, HY.out⟩, rfl⟩

/-- the six numbers are those of a date that is -/
def Good (n0 n1 n2 n3 n4 n5 : Int) : Prop := 1 ≤ n2 ∧ n2 ≤ (daysS n0 n1 : Nat) ∧ 0 ≤ n3 ∧ n3 ≤ 23 ∧ 0 ≤ n4 ∧ n4 ≤ 59 ∧ 0 ≤ n5 ∧ n5 ≤ 59
theorem NumT.yes {l : List UInt8} {v : Int} (h : NumT l v) (hv : 0 ≤ v) : Dgs l ∧ v = (vd l : Int) := by
  rcases h with h | ⟨_, rfl⟩
  · exact h
  · omega
theorem NumT.is {l : List UInt8} {v : Int} (h : NumT l v) (hd : Dgs l) : v = (vd l : Int) := by
  rcases h with h | ⟨h, _⟩
  · exact h.2
  · exact absurd hd h
theorem days_pos {n0 n1 : Int} (h : 1 ≤ daysS n0 n1) : 1 ≤ n0 ∧ 1 ≤ n1 := by
  apply Classical.byContradiction
  intro hn
  rw [days_none (by omega)] at h
  omega
theorem dd_dgs {n : Nat} (h : n < 100) : Dgs (dd n) := by
  intro c hc
  simp only [dd, List.mem_cons, List.not_mem_nil, or_false] at hc
  rcases hc with rfl | rfl
  · rw [ch_nat (by omega)]; omega
  · rw [ch_nat (by omega)]; omega
theorem dd_vd {n : Nat} (h : n < 100) : vd (dd n) = n := by
  show (0 * 10 + ((ch (48 + n / 10)).toNat - 48)) * 10 + ((ch (48 + n % 10)).toNat - 48) = n
  rw [ch_nat (by omega), ch_nat (by omega)]
  omega
theorem dd2_vd {n : Nat} (h : n < 10000) : vd (dd (n / 100) ++ dd (n % 100)) = n := by
  show (((0 * 10 + ((ch (48 + n / 100 / 10)).toNat - 48)) * 10 + ((ch (48 + n / 100 % 10)).toNat - 48)) * 10 + ((ch (48 + n % 100 / 10)).toNat - 48)) * 10 + ((ch (48 + n % 100 % 10)).toNat - 48) = n
  rw [ch_nat (by omega), ch_nat (by omega), ch_nat (by omega), ch_nat (by omega)]
  omega
/-- the numbers of a date's text -/
theorem nums_text {y m d h i c : Nat} (hb : Bnd y m d h i c) {n0 n1 n2 n3 n4 n5 : Int}
    (h0 : NumT (((txt6 y m d h i c).take 4).drop 0) n0) (h1 : NumT (((txt6 y m d h i c).take 6).drop 4) n1) (h2 : NumT (((txt6 y m d h i c).take 8).drop 6) n2)
    (h3 : NumT (((txt6 y m d h i c).take 10).drop 8) n3) (h4 : NumT (((txt6 y m d h i c).take 12).drop 10) n4) (h5 : NumT (((txt6 y m d h i c).take 14).drop 12) n5) :
    n0 = (y : Int) ∧ n1 = (m : Int) ∧ n2 = (d : Int) ∧ n3 = (h : Int) ∧ n4 = (i : Int) ∧ n5 = (c : Int) := by
  obtain ⟨b0, b1, b2, b3, b4, b5⟩ := hb
  have e0 : ((txt6 y m d h i c).take 4).drop 0 = dd (y / 100) ++ dd (y % 100) := rfl
  have e1 : ((txt6 y m d h i c).take 6).drop 4 = dd m := rfl
  have e2 : ((txt6 y m d h i c).take 8).drop 6 = dd d := rfl
  have e3 : ((txt6 y m d h i c).take 10).drop 8 = dd h := rfl
  have e4 : ((txt6 y m d h i c).take 12).drop 10 = dd i := rfl
  have e5 : ((txt6 y m d h i c).take 14).drop 12 = dd c := rfl
  rw [e0] at h0
  rw [e1] at h1
  rw [e2] at h2
  rw [e3] at h3
  rw [e4] at h4
  rw [e5] at h5
  have k0 : Dgs (dd (y / 100) ++ dd (y % 100)) := by
    intro x hx
    rcases List.mem_append.1 hx with hx | hx
    · exact dd_dgs (n := y / 100) (by omega) x hx
    · exact dd_dgs (n := y % 100) (by omega) x hx
  rw [h0.is k0, h1.is (dd_dgs b1), h2.is (dd_dgs b2), h3.is (dd_dgs b3), h4.is (dd_dgs b4), h5.is (dd_dgs b5), dd2_vd b0, dd_vd b1, dd_vd b2, dd_vd b3, dd_vd b4, dd_vd b5]
  exact ⟨rfl, rfl, rfl, rfl, rfl, rfl⟩
theorem good_fit {y m d h i c : Nat} : Good y m d h i c ↔ sfitB y m d h i c = true := by
  unfold Good sfitB
  rw [decide_eq_true_iff]
  omega
/-- the six numbers of a text of fifteen bytes whose last is Z: they are good just when the text is a time's -/
theorem nums_read {l : List UInt8} (hl : l.length = 15) (hz : bat l 14 = 90) {n0 n1 n2 n3 n4 n5 : Int}
    (h0 : NumT ((l.take 4).drop 0) n0) (h1 : NumT ((l.take 6).drop 4) n1) (h2 : NumT ((l.take 8).drop 6) n2)
    (h3 : NumT ((l.take 10).drop 8) n3) (h4 : NumT ((l.take 12).drop 10) n4) (h5 : NumT ((l.take 14).drop 12) n5) :
    (Good n0 n1 n2 n3 n4 n5 ∧ ∃ y m d h i c : Nat, n0 = (y : Int) ∧ n1 = (m : Int) ∧ n2 = (d : Int) ∧ n3 = (h : Int) ∧ n4 = (i : Int) ∧ n5 = (c : Int) ∧ sfitB y m d h i c = true ∧ l = txt6 y m d h i c) ∨ (¬ Good n0 n1 n2 n3 n4 n5 ∧ ReadT l 0 1) := by
  by_cases hd : ∀ j, j < 14 → 48 ≤ bat l j ∧ bat l j ≤ 57
  · obtain ⟨hb, he⟩ := digits_text l hl hz hd
    generalize el (psOf l 14) 0 = y at *
    generalize el (psOf l 14) 1 = m at *
    generalize el (psOf l 14) 2 = d at *
    generalize el (psOf l 14) 3 = h at *
    generalize el (psOf l 14) 4 = i at *
    generalize el (psOf l 14) 5 = c at *
    subst he
    obtain ⟨rfl, rfl, rfl, rfl, rfl, rfl⟩ := nums_text hb h0 h1 h2 h3 h4 h5
    cases hf : sfitB y m d h i c with
    | true => exact .inl ⟨good_fit.2 hf, y, m, d, h, i, c, rfl, rfl, rfl, rfl, rfl, rfl, hf, rfl⟩
    | false => exact .inr ⟨(fun hg => by rw [good_fit.1 hg] at hf; cases hf), read_unfit hb hf⟩
  · refine .inr ⟨fun hg => hd ?_, ?_⟩
    · obtain ⟨g1, g2, g3, g4, g5, g6, g7, g8⟩ := hg
      have hp := days_pos (n0 := n0) (n1 := n1) (by omega)
      have k0 := (h0.yes (by omega)).1
      have k1 := (h1.yes (by omega)).1
      have k2 := (h2.yes (by omega)).1
      have k3 := (h3.yes (by omega)).1
      have k4 := (h4.yes (by omega)).1
      have k5 := (h5.yes (by omega)).1
      obtain ⟨b0, b1, b2, b3, b4, b5, b6, b7, b8, b9, b10, b11, b12, b13, b14, rfl⟩ := list15 l hl
      simp only [Dgs, List.take_succ_cons, List.take_zero, List.drop_succ_cons, List.drop_zero, List.forall_mem_cons, List.not_mem_nil, false_implies, implies_true, and_true] at k0 k1 k2 k3 k4 k5
      intro j hj
      simp only [bat]
      rcases (by omega : j = 0 ∨ j = 1 ∨ j = 2 ∨ j = 3 ∨ j = 4 ∨ j = 5 ∨ j = 6 ∨ j = 7 ∨ j = 8 ∨ j = 9 ∨ j = 10 ∨ j = 11 ∨ j = 12 ∨ j = 13) with rfl | rfl | rfl | rfl | rfl | rfl | rfl | rfl | rfl | rfl | rfl | rfl | rfl | rfl
      · exact k0.1
      · exact k0.2.1
      · exact k0.2.2.1
      · exact k0.2.2.2
      · exact k1.1
      · exact k1.2
      · exact k2.1
      · exact k2.2
      · exact k3.1
      · exact k3.2
      · exact k4.1
      · exact k4.2
      · exact k5.1
      · exact k5.2
    · refine read_no (fun y m d h i c hb he => hd ?_)
      rw [he]
      exact (txt6_at y m d h i c hb).2
end Go.Proofs.YtjkciheoknjfhaaDoor
