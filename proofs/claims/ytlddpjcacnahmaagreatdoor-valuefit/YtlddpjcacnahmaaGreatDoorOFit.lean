/- Contracts of oid.Fit, apostilleref02.Fit. -/
import Derived.Test.YtlddpjcacnahmaaGreatDoorDTag
import Derived.Test.YtlddpjcacnahmaaGreatDoorKit
import Derived.Test.YtlddpjcacnahmaaGreatDoorBase
import Derived.RegionTactic
import Derived.BigRegion
namespace Go.Proofs.YtlddpjcacnahmaaGreatDoor
open Go.RowKit
set_option linter.unusedVariables false

theorem fit_short {l : List Nat} (h : l.length < 2) : fitB l = false := by unfold fitB; simp; omega
theorem fit_long {l : List Nat} (h : 20 < l.length) : fitB l = false := by unfold fitB; simp; omega
theorem fit_low {l : List Nat} (h1 : 2 ≤ l.length) (h2 : l.length ≤ 20) (h : el l 0 < 2) : fitB l = decide (el l 1 < 40) := by
  unfold fitB; rw [decide_eq_decide]; omega
theorem fit_two' {l : List Nat} (h1 : 2 ≤ l.length) (h2 : l.length ≤ 20) (h : el l 0 = 2) : fitB l = decide (el l 1 ≤ 4294967215) := by
  unfold fitB; rw [decide_eq_decide]; omega
theorem fit_high {l : List Nat} (h : 2 < el l 0) : fitB l = false := by
  unfold fitB; rw [decide_eq_false_iff_not]; omega

set_option maxHeartbeats 400000 in
theorem fit_any (v : Value) (l : List Nat) (w : World) (h : Row .u32 4294967296 w v l) :
    Calls Tryz.prog 49 #[v] w fun e w' => e = .returned (.bool (fitB l)) ∧ w' = w := by
  obtain ⟨a, cap, rfl, h1, h2, h3, h4⟩ := h
  unfold maxLen at h2
  by_cases hs : l.length < 2
  · rw [fit_short hs]
    go_enter Tryz.func49, Tryz.ntmps49
    go_wp2
    go_ret
    exact ⟨rfl, rfl⟩
  by_cases hl : 20 < l.length
  · rw [fit_long hl]
    go_enter Tryz.func49, Tryz.ntmps49
    go_wp2
    go_ret
    exact ⟨rfl, rfl⟩
  obtain ⟨b, off, rfl, hc⟩ := h3 (by omega)
  have c0 : w.cell? ⟨b, off, none⟩ = some (.int .u32 (el l 0)) := hc 0 (by omega)
  have c1 : w.cell? ⟨b, off + 1, none⟩ = some (.int .u32 (el l 1)) := hc 1 (by omega)
  have u1 := el_lt h4 (by decide) 1
  clear hc h3
  by_cases hlow : el l 0 < 2
  · rw [fit_low (by omega) (by omega) hlow]
    go_enter Tryz.func49, Tryz.ntmps49
    go_wp2
    go_ret
    exact ⟨ret_bool (by rw [decide_eq_decide]; omega), rfl⟩
  by_cases h22 : el l 0 = 2
  · have e2 : ((el l 0 : Int) == 2) = true := by simp [h22]
    rw [fit_two' (by omega) (by omega) h22]
    have H22 := hide h22
    clear h22
    go_enter Tryz.func49, Tryz.ntmps49
    go_wp2
    go_ret
    exact ⟨ret_bool (by rw [decide_eq_decide]; omega), rfl⟩
  · have e2 : ((el l 0 : Int) == 2) = false := by simp; omega
    rw [fit_high (by omega)]
    go_enter Tryz.func49, Tryz.ntmps49
    go_wp2
    go_ret
    exact ⟨rfl, rfl⟩

set_option maxHeartbeats 400000 in
theorem rfit_any (v : Value) (l : List Nat) (w : World) (h : Row .u32 4294967296 w v l) :
    Calls Tryz.prog 88 #[v] w fun e w' => e = .returned (.bool (fitB l)) ∧ w' = w := by
  obtain ⟨a, cap, rfl, h1, h2, h3, h4⟩ := h
  unfold maxLen at h2
  by_cases hs : l.length < 2
  · rw [fit_short hs]
    go_enter Tryz.func88, Tryz.ntmps88
    go_wp2
    go_ret
    exact ⟨rfl, rfl⟩
  by_cases hl : 20 < l.length
  · rw [fit_long hl]
    go_enter Tryz.func88, Tryz.ntmps88
    go_wp2
    go_ret
    exact ⟨rfl, rfl⟩
  obtain ⟨b, off, rfl, hc⟩ := h3 (by omega)
  have c0 : w.cell? ⟨b, off, none⟩ = some (.int .u32 (el l 0)) := hc 0 (by omega)
  have c1 : w.cell? ⟨b, off + 1, none⟩ = some (.int .u32 (el l 1)) := hc 1 (by omega)
  have u1 := el_lt h4 (by decide) 1
  clear hc h3
  by_cases hlow : el l 0 < 2
  · have e2 : ((el l 0 : Int) == 2) = false := by simp; omega
    rw [fit_low (by omega) (by omega) hlow]
    by_cases hx : el l 1 < 40
    · go_enter Tryz.func88, Tryz.ntmps88
      go_wp2
      go_ret
      exact ⟨ret_bool (by simp), rfl⟩
    · go_enter Tryz.func88, Tryz.ntmps88
      go_wp2
      go_ret
      exact ⟨ret_bool (by simp; omega), rfl⟩
  by_cases h22 : el l 0 = 2
  · have e2 : ((el l 0 : Int) == 2) = true := by simp [h22]
    rw [fit_two' (by omega) (by omega) h22]
    have g1 : ¬ (2 : Int) < (el l 0 : Int) := by omega
    have H22 := hide h22
    clear h22
    go_enter Tryz.func88, Tryz.ntmps88
    go_wp2
    go_ret
    exact ⟨ret_bool (by rw [decide_eq_decide]; omega), rfl⟩
  · have g1 : (2 : Int) < (el l 0 : Int) := by omega
    rw [fit_high (by omega)]
    go_enter Tryz.func88, Tryz.ntmps88
    go_wp2
    go_ret
    exact ⟨rfl, rfl⟩
end Go.Proofs.YtlddpjcacnahmaaGreatDoor

/- Contract of slices.Reverse. -/
namespace Go.Proofs.YtlddpjcacnahmaaGreatDoor
open Go.RowKit
set_option linter.unusedVariables false

/-- a list, its first and last k elements exchanged -/
def revTo (l : List Nat) (k : Nat) : List Nat := (List.range l.length).map (fun t => if t < k ∨ l.length - k ≤ t then el l (l.length - 1 - t) else el l t)

theorem revTo_length (l : List Nat) (k : Nat) : (revTo l k).length = l.length := by simp [revTo]
theorem revTo_zero (l : List Nat) : revTo l 0 = l := by
  apply List.ext_getElem
  · simp [revTo]
  · intro i h1 h2
    simp only [revTo, List.getElem_map, List.getElem_range]
    rw [if_neg (by omega), el_at h2]
theorem revTo_full (l : List Nat) (k : Nat) (h : l.length ≤ 2 * k + 1) : revTo l k = l.reverse := by
  apply List.ext_getElem
  · simp [revTo]
  · intro i h1 h2
    have h3 : i < l.length := by simpa using h2
    simp only [revTo, List.getElem_map, List.getElem_range, List.getElem_reverse]
    by_cases hc : i < k ∨ l.length - k ≤ i
    · rw [if_pos hc, el_at]
    · rw [if_neg hc, el_at h3]
      have e : i = l.length - 1 - i := by omega
      congr 1
theorem revTo_el (l : List Nat) (k t : Nat) (ht : t < l.length) (h : k ≤ t ∧ t < l.length - k) : el (revTo l k) t = el l t := by
  rw [el_at (by rw [revTo_length]; exact ht)]
  simp only [revTo, List.getElem_map, List.getElem_range]
  rw [if_neg (by omega)]
theorem revTo_set (l : List Nat) (k j : Nat) (hj : j = l.length - 1 - k) (h : k < j) :
    ((revTo l k).set k (el l j)).set j (el l k) = revTo l (k + 1) := by
  apply List.ext_getElem
  · simp [revTo]
  · intro i h1 h2
    have h3 : i < l.length := by simpa [revTo] using h2
    simp only [revTo, List.getElem_set, List.getElem_map, List.getElem_range]
    by_cases e1 : j = i
    · subst e1; rw [if_pos rfl, if_pos (by omega)]; congr 1; omega
    · rw [if_neg e1]
      by_cases e2 : k = i
      · subst e2; rw [if_pos rfl, if_pos (by omega)]; congr 1
      · rw [if_neg e2]
        by_cases e3 : i < k ∨ l.length - k ≤ i
        · rw [if_pos e3, if_pos (by omega)]
        · rw [if_neg e3, if_neg (by omega)]
theorem revTo_under (l : List Nat) (k : Nat) (m : Nat) (hm : 0 < m) (h : Under m l) : Under m (revTo l k) := by
  intro x hx
  obtain ⟨i, _, rfl⟩ := List.mem_map.1 hx
  split <;> exact el_lt h hm _
theorem set_comm' (l : List Nat) (i j x y : Nat) (h : i ≠ j) : (l.set i x).set j y = (l.set j y).set i x := List.set_comm x y h

set_option maxHeartbeats 400000 in
theorem rev_any (v : Value) (l : List Nat) (B : Nat) (w : World) (h : Own 5 .u8 256 w B v l) :
    Calls Tryz.prog 96 #[v] w fun e w' => e = .returned (.tuple #[]) ∧ Own 5 .u8 256 w' B v l.reverse ∧ Below B w w' := by
  obtain ⟨ho, hu⟩ := h
  have ho' := ho
  obtain ⟨h1, ⟨rfl, h2⟩ | ⟨g, cap, cur, rfl, h3, h4, h5, h6, h7, h8⟩⟩ := ho
  · have : l = [] := List.eq_nil_of_length_eq_zero h2
    subst this
    go_enter Tryz.func96, Tryz.ntmps96
    go_wp2
    refine wp_loop_rounds 1 ?_; rw [rounds_succ]
    go_wp2
    go_end0
    exact ⟨rfl, ⟨ho', hu⟩, Below.refl _ _⟩
  · clear h4 h7 h8 h1
    unfold maxLen at h6
    generalize hN : l.length = N at *
    have HN := hide hN
    clear hN
    go_enter Tryz.func96, Tryz.ntmps96
    go_wp2
    go_loopw [2, 3] (fun i j wr => ∃ k jn : Nat, i = .int .i64 k ∧ j = .int .i64 ((jn : Int) - 1) ∧ k + jn = N ∧ wr.ownsRow B 5 1 (.slice (some ⟨g, 0, none⟩) N cap) N (vals .u8 (revTo l k)) ∧ Below B w wr) (fun _ j _ => (intOf j).toNat)
    case atStart => exact ⟨0, N, rfl, rfl, by omega, by rw [revTo_zero]; exact ho', Below.refl _ _⟩
    case round =>
      obtain ⟨k, jn, rfl, rfl, hkj, how, hbr⟩ := hrel
      have hle1 : k ≤ N := by omega
      have hle2 : jn ≤ N := by omega
      have HKJ := hide hkj
      clear hkj
      by_cases hlt : k + 1 < jn
      · obtain ⟨j, rfl⟩ : ∃ j, jn = j + 1 := ⟨jn - 1, by omega⟩
        have hkj : k < j := by omega
        have hjN : j < N := by omega
        have c1 := how.cellAt k (by omega)
        rw [vals_get _ _ _ (by rw [revTo_length, HN.out]; omega)] at c1
        have c2 := how.cellAt j (by omega)
        rw [vals_get _ _ _ (by rw [revTo_length, HN.out]; omega)] at c2
        have f1 := how.frozenAt k
        have f2 := how.frozenAt j
        rw [show (((j + 1 : Nat) : Int) - 1) = (j : Int) from by omega]
        go_wp2
        go_region
        go_wp2
        go_roundw
        case rel =>
          have e1 : el (revTo l k) j = el l j := revTo_el l k j (by rw [HN.out]; omega) (by rw [HN.out]; have := HKJ.out; omega)
          have e2 : el (revTo l k) k = el l k := revTo_el l k k (by rw [HN.out]; omega) (by rw [HN.out]; have := HKJ.out; omega)
          have s1 := (how.stored k (.int .u8 (el (revTo l k) j : Int))).1
          have s2 := (s1.stored j (.int .u8 (el (revTo l k) k : Int))).1
          rw [vals_set, vals_set, e1, e2, revTo_set l k j (by rw [HN.out]; have := HKJ.out; omega) hkj] at s2
          rw [e1, e2]
          exact ⟨k + 1, j, by go_num, rfl, by have := HKJ.out; omega, s2, ((hbr.setCell (by simpa using h3) _).setCell (by simpa using h3) _).drew⟩
        case measure => simp [intOf]; omega
      · go_wp2
        go_end0
        have e : revTo l k = l.reverse := revTo_full l k (by rw [HN.out]; have := HKJ.out; omega)
        refine ⟨rfl, ⟨?_, ?_⟩, hbr⟩
        · rw [← e, revTo_length, HN.out]; exact how
        · rw [← e]; exact revTo_under _ _ _ (by decide) hu
end Go.Proofs.YtlddpjcacnahmaaGreatDoor

/- Contract of slices.Reverse over the end of a row. -/
namespace Go.Proofs.YtlddpjcacnahmaaGreatDoor
open Go.RowKit
set_option linter.unusedVariables false

theorem el_app (a b : List Nat) (k : Nat) : el (a ++ b) (a.length + k) = el b k := by
  unfold el
  rw [List.getElem?_append_right (by omega)]
  congr 2; omega
theorem set_app (a b : List Nat) (k x : Nat) : (a ++ b).set (a.length + k) x = a ++ b.set k x := by
  induction a with
  | nil => simp
  | cons y a ih => rw [List.cons_append, List.length_cons, show a.length + 1 + k = (a.length + k) + 1 by omega, List.set_cons_succ, ih]; rfl

set_option maxHeartbeats 1000000 in
theorem revAt_any (g cap : Nat) (a l : List Nat) (B : Nat) (w : World) (ha : Under 256 a) (h : Own 5 .u8 256 w B (.slice (some ⟨g, 0, none⟩) (a ++ l).length cap) (a ++ l)) :
    Calls Tryz.prog 96 #[.slice (some ⟨g, a.length, none⟩) l.length (cap - a.length)] w fun e w' => e = .returned (.tuple #[]) ∧
      Own 5 .u8 256 w' B (.slice (some ⟨g, 0, none⟩) (a ++ l).length cap) (a ++ l.reverse) ∧ Below B w w' := by
  obtain ⟨ho, hu⟩ := h
  have hul : Under 256 l := fun x hx => hu x (by simp [hx])
  have ho' := ho
  obtain ⟨h1, ⟨h2, _⟩ | ⟨g', cap', cur, he, h3, h4, h5, h6, h7, h8⟩⟩ := ho
  · simp at h2
  simp only [Value.slice.injEq, Option.some.injEq, Addr.mk.injEq, and_true, true_and] at he
  obtain ⟨rfl, rfl⟩ := he
  clear h4 h7 h8 h1
  unfold maxLen at h6
  rw [List.length_append] at h5
  generalize hN : l.length = N at *
  have HN := hide hN
  clear hN
  generalize hS : a.length = S at *
  have HS := hide hS
  clear hS
  generalize hA : (a ++ l).length = A at *
  have HA := hide hA
  clear hA
  have hAN : A = S + N := by have := HA.out; rw [List.length_append, HS.out, HN.out] at this; omega
  have HAN := hide hAN
  have hle0 : S + N ≤ A := by omega
  clear hAN
  go_enter Tryz.func96, Tryz.ntmps96
  go_wp2
  go_loopw [2, 3] (fun i j wr => ∃ k jn : Nat, i = .int .i64 k ∧ j = .int .i64 ((jn : Int) - 1) ∧ k + jn = N ∧ wr.ownsRow B 5 1 (.slice (some ⟨g, 0, none⟩) A cap) A (vals .u8 (a ++ revTo l k)) ∧ Below B w wr) (fun _ j _ => (intOf j).toNat)
  case atStart => exact ⟨0, N, rfl, rfl, by omega, by rw [revTo_zero]; exact ho', Below.refl _ _⟩
  case round =>
    obtain ⟨k, jn, rfl, rfl, hkj, how, hbr⟩ := hrel
    have hle1 : k ≤ N := by omega
    have hle2 : jn ≤ N := by omega
    have HKJ := hide hkj
    clear hkj
    by_cases hlt : k + 1 < jn
    · obtain ⟨j, rfl⟩ : ∃ j, jn = j + 1 := ⟨jn - 1, by omega⟩
      have hkj : k < j := by omega
      have hjN : j < N := by omega
      have c1 := how.cellAt (S + k) (by omega)
      rw [vals_get _ _ _ (by rw [List.length_append, revTo_length, HN.out, HS.out]; omega)] at c1
      have c2 := how.cellAt (S + j) (by omega)
      rw [vals_get _ _ _ (by rw [List.length_append, revTo_length, HN.out, HS.out]; omega)] at c2
      have q1 := el_app a (revTo l k) k
      have q2 := el_app a (revTo l k) j
      rw [HS.out] at q1 q2
      rw [q1] at c1
      rw [q2] at c2
      clear q1 q2
      have f1 := how.frozenAt (S + k)
      have f2 := how.frozenAt (S + j)
      rw [show (((j + 1 : Nat) : Int) - 1) = (j : Int) from by omega]
      go_wp2
      go_region
      go_wp2
      go_roundw
      case rel =>
        have e1 : el (revTo l k) j = el l j := revTo_el l k j (by rw [HN.out]; omega) (by rw [HN.out]; have := HKJ.out; omega)
        have e2 : el (revTo l k) k = el l k := revTo_el l k k (by rw [HN.out]; omega) (by rw [HN.out]; have := HKJ.out; omega)
        have s1 := (how.stored (S + k) (.int .u8 (el (revTo l k) j : Int))).1
        have s2 := (s1.stored (S + j) (.int .u8 (el (revTo l k) k : Int))).1
        have p1 := set_app a (revTo l k) k (el l j)
        have p2 := set_app a ((revTo l k).set k (el l j)) j (el l k)
        rw [HS.out] at p1 p2
        rw [vals_set, vals_set, e1, e2, p1, p2, revTo_set l k j (by rw [HN.out]; have := HKJ.out; omega) hkj] at s2
        rw [e1, e2]
        exact ⟨k + 1, j, by go_num, rfl, by have := HKJ.out; omega, s2, ((hbr.setCell (by simpa using h3) _).setCell (by simpa using h3) _).drew⟩
      case measure => simp [intOf]; omega
    · go_wp2
      go_end0
      have e : revTo l k = l.reverse := revTo_full l k (by rw [HN.out]; have := HKJ.out; omega)
      refine ⟨rfl, ⟨?_, ?_⟩, hbr⟩
      · rw [← e, List.length_append, revTo_length, HN.out, HS.out]
        have := HAN.out
        subst this
        exact how
      · intro x hx
        rcases List.mem_append.1 hx with h9 | h9
        · exact ha x h9
        · exact hul x (by simpa using h9)
end Go.Proofs.YtlddpjcacnahmaaGreatDoor

/- Contracts of apostilleref02.groups, oid.appendNumber. -/
namespace Go.Proofs.YtlddpjcacnahmaaGreatDoor
open Go.RowKit
set_option linter.unusedVariables false

theorem or128 (q : Nat) : bits .or .u8 128 ((q % 128 : Nat) : Int) = ((128 + q % 128 : Nat) : Int) := by
  rw [show (128 : Int) = ((128 : Nat) : Int) from rfl, u8_or_nat _ _ (by decide) (by omega), nat_join 7 128 (q % 128) (by decide) (by omega)]

theorem hib_step {n : Nat} (h : 0 < n) : hib n = hib (n / 128) ++ [128 + n % 128] := hi_pos h
theorem hib_zero : hib 0 = [] := hi_zero

set_option maxHeartbeats 1000000 in
theorem rgrp_any (n : Nat) (w : World) (hn : n < 4294967296) :
    Calls Tryz.prog 89 #[.int .u32 n] w fun e w' => ∃ v, e = .returned v ∧ Own 5 .u8 256 w' w.heap.size v (grp n) ∧ Below w.heap.size w w' := by
  obtain ⟨i0, hi, hz0, hz1, hz2⟩ := info_parts Tryz.info5
  go_enter Tryz.func89, Tryz.ntmps89
  go_wp2
  have st := one_own 5 .u8 256 (n % 128) w w.heap.size (Nat.le_refl _)
  have hlen := grp_len hn
  have hgu := grp_under n
  have e1 : (n : Int) / 128 = ((n / 128 : Nat) : Int) := nat_quo n 128
  have e2 : (n : Int) % 128 = ((n % 128 : Nat) : Int) := nat_rem n 128
  rw [e1, e2]
  have hg : hib (n / 128) ++ [n % 128] = grp n := rfl
  have hq0 : n / 128 < 4294967296 := by omega
  clear e1 e2
  generalize n / 128 = q0 at *
  generalize n % 128 = r0 at *
  go_loopw [0, 3] (fun u v wr => ∃ (q g cap : Nat) (acc : List Nat), u = .int .u32 q ∧ q < 4294967296 ∧ 0 < acc.length ∧ acc.length ≤ 5 ∧ v = .slice (some ⟨g, 0, none⟩) acc.length cap ∧ Hid (hib q ++ acc = grp n) ∧ wr.ownsRow w.heap.size 5 1 v acc.length (vals .u8 acc) ∧ Below w.heap.size w wr) (fun u _ _ => (intOf u).toNat)
  case atStart => exact ⟨q0, w.heap.size, 1, [r0], rfl, hq0, by simp, by simp, rfl, hide hg, st, keep_alloc _ _⟩
  case round =>
    obtain ⟨q, g, cap, acc, rfl, hq, hal, hal5, rfl, HG, how, hbr⟩ := hrel
    have hsz := hbr.size
    by_cases h0 : 0 < q
    · have hrow := (how.alloc (.cells #[.int .u8 (128 + (q : Int) % 128)] 5)).cells (g := g) rfl
      have how1 : (wr.alloc (.cells #[.int .u8 (128 + (q : Int) % 128)] 5)).ownsRow w.heap.size 5 1 (.slice (some ⟨wr.heap.size, 0, none⟩) 1 1) 1 (vals .u8 [128 + q % 128]) := one_own 5 .u8 256 (128 + q % 128) wr w.heap.size hsz
      go_wp2_with (first | (at_builtin; refine wpList_append_own _ rfl _ _ 22 rfl w.heap.size 5 i0 (.int .u8 0) 1 1 Tryz.underlying22 hi hz0 hz1 hz2 rfl (by decide) _ _ _ rfl how1 ⟨g, 0, none⟩ acc.length cap (vals .u8 acc) rfl (by rw [vals_length, Nat.mul_one]) hrow (vals_one _ _) (by unfold maxLen; omega) (by omega) (by simp; omega) ?_; intro v' w3 how' hgrow _) | fail)
      have hb3 : Below w.heap.size w w3 := (hbr.alloc hsz _).grown hgrow (by simp; omega) (fun k h => by cases h; exact hsz)
      obtain ⟨g3, cap3, rfl, _⟩ := row_form how' (by omega)
      rw [← vals_append] at how'
      have HG2 : Hid (hib (q / 128) ++ ([128 + q % 128] ++ acc) = grp n) := by
        have := HG.out
        rw [hib_step h0, List.append_assoc] at this
        exact this
      have hl5 : ([128 + q % 128] ++ acc).length ≤ 5 := by
        have := congrArg List.length HG2.out
        rw [List.length_append] at this
        omega
      go_wp2
      go_roundw
      case rel => exact ⟨q / 128, g3, cap3, [128 + q % 128] ++ acc, by simp, by omega, by simp, hl5, by simp [Nat.add_comm], HG2, by rw [List.length_append]; exact how', hb3⟩
      case measure => simp [intOf]; omega
    · have hq0 : q = 0 := by omega
      subst hq0
      have hG := HG.out
      rw [hib_zero, List.nil_append] at hG
      go_wp2
      go_ret
      exact ⟨_, rfl, ⟨by rw [← hG]; exact how, hgu⟩, hbr⟩
end Go.Proofs.YtlddpjcacnahmaaGreatDoor

/- Contract of oid.appendNumber. -/
namespace Go.Proofs.YtlddpjcacnahmaaGreatDoor
open Go.RowKit
set_option linter.unusedVariables false

set_option maxHeartbeats 1000000 in
theorem appn_any (v : Value) (a : List Nat) (n : Nat) (B : Nat) (w : World) (hB : B ≤ w.heap.size) (h : Own 5 .u8 256 w B v a) (hn : n < 4294967296) (ha : a.length ≤ 1000000) :
    Calls Tryz.prog 87 #[v, .int .u32 n] w fun e w' => ∃ v', e = .returned v' ∧ Own 5 .u8 256 w' B v' (a ++ grp n) ∧ Below B w w' := by
  obtain ⟨i0, hi, hz0, hz1, hz2⟩ := info_parts Tryz.info5
  have hrow := h.row
  obtain ⟨ad, cap, rfl, h1, h2, h3, hua⟩ := hrow
  obtain ⟨how, _⟩ := h
  clear h3
  unfold maxLen at h2
  have hlen := grp_len hn
  have hgu := grp_under n
  go_enter Tryz.func87, Tryz.ntmps87
  go_wp2_with (first | (at_builtin; refine wpList_append_own _ rfl _ _ 22 rfl B 5 i0 (.int .u8 0) 1 1 Tryz.underlying22 hi hz0 hz1 hz2 rfl (by decide) _ _ _ rfl (how.alloc _) ⟨w.heap.size, 0, none⟩ 1 1 (vals .u8 [n % 128]) rfl rfl (app_cells w .u8 (n % 128) _ _ (by simp)) (vals_one _ _) (by unfold maxLen; omega) (by omega) (by simp; omega) ?_; intro v1 w1 how1 hgrow1 _) | go_in)
  have hb1 := below_append (Below.refl B w) hB how _ hgrow1
  clear hgrow1
  obtain ⟨g1, cap1, rfl, _⟩ := row_form how1 (by omega)
  rw [← vals_append] at how1
  go_wp2
  have e1 : (n : Int) / 128 = ((n / 128 : Nat) : Int) := nat_quo n 128
  have e2 : (n : Int) % 128 = ((n % 128 : Nat) : Int) := nat_rem n 128
  rw [e1, e2]
  clear e1 e2
  have hg : hib (n / 128) ++ [n % 128] = grp n := rfl
  have hq0 : n / 128 < 4294967296 := by omega
  generalize n / 128 = q0 at *
  generalize n % 128 = r0 at *
  go_loopw [0, 1] (fun v u wr => ∃ (q g cap : Nat) (acc : List Nat), u = .int .u32 q ∧ q < 4294967296 ∧ 0 < acc.length ∧ acc.length ≤ 5 ∧ v = .slice (some ⟨g, 0, none⟩) (a.length + acc.length) cap ∧ Hid (hib q ++ acc.reverse = grp n) ∧ wr.ownsRow B 5 1 v (a.length + acc.length) (vals .u8 (a ++ acc)) ∧ Below B w wr) (fun _ u _ => (intOf u).toNat)
  case atStart => exact ⟨q0, g1, cap1, [r0], rfl, hq0, by simp, by simp, rfl, hide hg, how1, hb1⟩
  case round =>
    obtain ⟨q, g, cap', acc, rfl, hq, hal, hal5, rfl, HG, hw, hbr⟩ := hrel
    have hsz := hbr.size
    by_cases h0 : 0 < q
    · have e128 : bits .or .u8 128 ((q : Int) % 128) = ((128 + q % 128 : Nat) : Int) := or128 q
      go_wp2_with (first | (at_builtin; refine wpList_append_own _ rfl _ _ 22 rfl B 5 i0 (.int .u8 0) 1 1 Tryz.underlying22 hi hz0 hz1 hz2 rfl (by decide) _ _ _ rfl (hw.alloc _) ⟨wr.heap.size, 0, none⟩ 1 1 (vals .u8 [128 + q % 128]) rfl rfl (app_cells wr .u8 (128 + q % 128) _ _ (by first | exact e128 | simp)) (vals_one _ _) (by unfold maxLen; omega) (by omega) (by simp; omega) ?_; intro v3 w3 how3 hgrow3 _) | go_in)
      have hb3 := below_append hbr (by omega) hw _ hgrow3
      obtain ⟨g3, cap3, rfl, _⟩ := row_form how3 (by omega)
      rw [← vals_append, List.append_assoc] at how3
      have HG2 : Hid (hib (q / 128) ++ (acc ++ [128 + q % 128]).reverse = grp n) := by
        have := HG.out
        rw [hib_step h0, List.append_assoc] at this
        unfold Hid
        rw [List.reverse_append]
        exact this
      have hl5 : (acc ++ [128 + q % 128]).length ≤ 5 := by
        have := congrArg List.length HG2.out
        rw [List.length_append, List.length_reverse] at this
        omega
      go_wp2
      go_roundw
      case rel => exact ⟨q / 128, g3, cap3, acc ++ [128 + q % 128], by simp, by omega, by simp, hl5, by simp [Nat.add_assoc], HG2, by rw [List.length_append, ← Nat.add_assoc]; exact how3, hb3⟩
      case measure => simp [intOf]; omega
    · have hq0 : q = 0 := by omega
      subst hq0
      have hG := HG.out
      rw [hib_zero, List.nil_append] at hG
      have hacu : Under 256 acc := by intro x hx; exact hgu x (by rw [← hG]; simpa using hx)
      obtain ⟨gg, cc, hee, hb0, hnc, hcm⟩ := row_form hw (by omega)
      simp only [Value.slice.injEq, Option.some.injEq, Addr.mk.injEq, and_true, true_and] at hee
      obtain ⟨rfl, rfl⟩ := hee
      unfold maxLen at hcm
      have HL : Hid ((a ++ acc).length = a.length + acc.length) := hide List.length_append
      have hcall := revAt_any g cap' a acc B wr hua ⟨by rw [HL.out]; exact hw, hua.append hacu⟩
      rw [HL.out, hG] at hcall
      clear HG hG
      go_wp2_with (first | (go_at_call 96; refine hcall.mono ?_; rintro e w4 ⟨rfl, ho4, hb4⟩) | go_in)
      go_ret
      exact ⟨_, rfl, ho4, hbr.trans hb4⟩
end Go.Proofs.YtlddpjcacnahmaaGreatDoor
