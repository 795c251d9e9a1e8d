/- Contract of slices.Reverse. -/
import Derived.Test.YtpmobjfhhkglbaaOwn
import Derived.RegionTactic
import Derived.BigRegion
namespace Go.Proofs.Ytpmobjfhhkglbaa
open Go.RowKit
set_option linter.unusedVariables false

/-- a list, its first and last k elements exchanged -/
def revTo (l : List Nat) (k : Nat) : List Nat := (List.range l.length).map (fun t => if t < k ∨ l.length - k ≤ t then el l (l.length - 1 - t) else el l t)

theorem revTo_length (l : List Nat) (k : Nat) : (revTo l k).length = l.length := by simp [revTo]
theorem revTo_zero (l : List Nat) : revTo l 0 = l := by
  apply List.ext_getElem
  · simp [revTo]
  · intro i h1 h2
    simp only [revTo, List.getElem_map, List.getElem_range]
    rw [if_neg (by omega), el_at h2]
theorem revTo_full (l : List Nat) (k : Nat) (h : l.length ≤ 2 * k + 1) : revTo l k = l.reverse := by
  apply List.ext_getElem
  · simp [revTo]
  · intro i h1 h2
    have h3 : i < l.length := by simpa using h2
    simp only [revTo, List.getElem_map, List.getElem_range, List.getElem_reverse]
    by_cases hc : i < k ∨ l.length - k ≤ i
    · rw [if_pos hc, el_at]
    · rw [if_neg hc, el_at h3]
      have e : i = l.length - 1 - i := by omega
      congr 1
theorem revTo_el (l : List Nat) (k t : Nat) (ht : t < l.length) (h : k ≤ t ∧ t < l.length - k) : el (revTo l k) t = el l t := by
  rw [el_at (by rw [revTo_length]; exact ht)]
  simp only [revTo, List.getElem_map, List.getElem_range]
  rw [if_neg (by omega)]
theorem revTo_set (l : List Nat) (k j : Nat) (hj : j = l.length - 1 - k) (h : k < j) :
    ((revTo l k).set k (el l j)).set j (el l k) = revTo l (k + 1) := by
  apply List.ext_getElem
  · simp [revTo]
  · intro i h1 h2
    have h3 : i < l.length := by simpa [revTo] using h2
    simp only [revTo, List.getElem_set, List.getElem_map, List.getElem_range]
    by_cases e1 : j = i
    · subst e1; rw [if_pos rfl, if_pos (by omega)]; congr 1; omega
    · rw [if_neg e1]
      by_cases e2 : k = i
      · subst e2; rw [if_pos rfl, if_pos (by omega)]; congr 1
      · rw [if_neg e2]
        by_cases e3 : i < k ∨ l.length - k ≤ i
        · rw [if_pos e3, if_pos (by omega)]
        · rw [if_neg e3, if_neg (by omega)]
theorem revTo_under (l : List Nat) (k : Nat) (m : Nat) (hm : 0 < m) (h : Under m l) : Under m (revTo l k) := by
  intro x hx
  obtain ⟨i, _, rfl⟩ := List.mem_map.1 hx
  split <;> exact el_lt h hm _
set_option maxHeartbeats 400000 in
theorem rev_any (v : Value) (l : List Nat) (B : Nat) (w : World) (h : Own 5 .u8 256 w B v l) :
    Calls Try.prog 18 #[v] w fun e w' => e = .returned (.tuple #[]) ∧ Own 5 .u8 256 w' B v l.reverse ∧ Below B w w' := by
  obtain ⟨ho, hu⟩ := h
  have ho' := ho
  obtain ⟨h1, ⟨rfl, h2⟩ | ⟨g, cap, cur, rfl, h3, h4, h5, h6, h7, h8⟩⟩ := ho
  · have : l = [] := List.eq_nil_of_length_eq_zero h2
    subst this
    go_enter Try.func18, Try.ntmps18
    go_wp2
    refine wp_loop_rounds 1 ?_; rw [rounds_succ]
    go_wp2
    go_end0
    exact ⟨rfl, ⟨ho', hu⟩, Below.refl _ _⟩
  · clear h4 h7 h8 h1
    unfold maxLen at h6
    generalize hN : l.length = N at *
    have HN := hide hN
    clear hN
    go_enter Try.func18, Try.ntmps18
    go_wp2
    go_loopw [2, 3] (fun i j wr => ∃ k jn : Nat, i = .int .i64 k ∧ j = .int .i64 ((jn : Int) - 1) ∧ k + jn = N ∧ wr.ownsRow B 5 1 (.slice (some ⟨g, 0, none⟩) N cap) N (vals .u8 (revTo l k)) ∧ Below B w wr) (fun _ j _ => (intOf j).toNat)
    case atStart => exact ⟨0, N, rfl, rfl, by omega, by rw [revTo_zero]; exact ho', Below.refl _ _⟩
    case round =>
      obtain ⟨k, jn, rfl, rfl, hkj, how, hbr⟩ := hrel
      have hle1 : k ≤ N := by omega
      have hle2 : jn ≤ N := by omega
      have HKJ := hide hkj
      clear hkj
      by_cases hlt : k + 1 < jn
      · obtain ⟨j, rfl⟩ : ∃ j, jn = j + 1 := ⟨jn - 1, by omega⟩
        have hkj : k < j := by omega
        have hjN : j < N := by omega
        have c1 := how.cellAt k (by omega)
        rw [vals_get _ _ _ (by rw [revTo_length, HN.out]; omega)] at c1
        have c2 := how.cellAt j (by omega)
        rw [vals_get _ _ _ (by rw [revTo_length, HN.out]; omega)] at c2
        have f1 := how.frozenAt k
        have f2 := how.frozenAt j
        rw [show (((j + 1 : Nat) : Int) - 1) = (j : Int) from by omega]
        go_wp2
        go_region
        go_wp2
        go_roundw
        case rel =>
          have e1 : el (revTo l k) j = el l j := revTo_el l k j (by rw [HN.out]; omega) (by rw [HN.out]; have := HKJ.out; omega)
          have e2 : el (revTo l k) k = el l k := revTo_el l k k (by rw [HN.out]; omega) (by rw [HN.out]; have := HKJ.out; omega)
          have s1 := (how.stored k (.int .u8 (el (revTo l k) j : Int))).1
          have s2 := (s1.stored j (.int .u8 (el (revTo l k) k : Int))).1
          rw [vals_set, vals_set, e1, e2, revTo_set l k j (by rw [HN.out]; have := HKJ.out; omega) hkj] at s2
          rw [e1, e2]
          exact ⟨k + 1, j, by go_num, rfl, by have := HKJ.out; omega, s2, ((hbr.setCell (by simpa using h3) _).setCell (by simpa using h3) _).drew⟩
        case measure => simp [intOf]; omega
      · go_wp2
        go_end0
        have e : revTo l k = l.reverse := revTo_full l k (by rw [HN.out]; have := HKJ.out; omega)
        refine ⟨rfl, ⟨?_, ?_⟩, hbr⟩
        · rw [← e, revTo_length, HN.out]; exact how
        · rw [← e]; exact revTo_under _ _ _ (by decide) hu
end Go.Proofs.Ytpmobjfhhkglbaa
