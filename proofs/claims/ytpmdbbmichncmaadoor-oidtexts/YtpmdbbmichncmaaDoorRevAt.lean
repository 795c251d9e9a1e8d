/- Contract of slices.Reverse over the end of a row. -/
import Derived.Test.YtpmdbbmichncmaaDoorRev
namespace Go.Proofs.YtpmdbbmichncmaaDoor
open Go.RowKit
set_option linter.unusedVariables false

theorem el_app (a b : List Nat) (k : Nat) : el (a ++ b) (a.length + k) = el b k := by
  unfold el
  rw [List.getElem?_append_right (by omega)]
  congr 2; omega
theorem set_app (a b : List Nat) (k x : Nat) : (a ++ b).set (a.length + k) x = a ++ b.set k x := by
  induction a with
  | nil => simp
  | cons y a ih => rw [List.cons_append, List.length_cons, show a.length + 1 + k = (a.length + k) + 1 by omega, List.set_cons_succ, ih]; rfl

set_option maxHeartbeats 1000000 in
theorem revAt_any (g cap : Nat) (a l : List Nat) (B : Nat) (w : World) (ha : Under 256 a) (h : Own 5 .u8 256 w B (.slice (some ⟨g, 0, none⟩) (a ++ l).length cap) (a ++ l)) :
    Calls Tryd.prog 33 #[.slice (some ⟨g, a.length, none⟩) l.length (cap - a.length)] w fun e w' => e = .returned (.tuple #[]) ∧
      Own 5 .u8 256 w' B (.slice (some ⟨g, 0, none⟩) (a ++ l).length cap) (a ++ l.reverse) ∧ Below B w w' := by
  obtain ⟨ho, hu⟩ := h
  have hul : Under 256 l := fun x hx => hu x (by simp [hx])
  have ho' := ho
  obtain ⟨h1, ⟨h2, _⟩ | ⟨g', cap', cur, he, h3, h4, h5, h6, h7, h8⟩⟩ := ho
  · simp at h2
  simp only [Value.slice.injEq, Option.some.injEq, Addr.mk.injEq, and_true, true_and] at he
  obtain ⟨rfl, rfl⟩ := he
  clear h4 h7 h8 h1
  unfold maxLen at h6
  rw [List.length_append] at h5
  generalize hN : l.length = N at *
  have HN := hide hN
  clear hN
  generalize hS : a.length = S at *
  have HS := hide hS
  clear hS
  generalize hA : (a ++ l).length = A at *
  have HA := hide hA
  clear hA
  have hAN : A = S + N := by have := HA.out; rw [List.length_append, HS.out, HN.out] at this; omega
  have HAN := hide hAN
  have hle0 : S + N ≤ A := by omega
  clear hAN
  go_enter Tryd.func33, Tryd.ntmps33
  go_wp2
  go_loopw [2, 3] (fun i j wr => ∃ k jn : Nat, i = .int .i64 k ∧ j = .int .i64 ((jn : Int) - 1) ∧ k + jn = N ∧ wr.ownsRow B 5 1 (.slice (some ⟨g, 0, none⟩) A cap) A (vals .u8 (a ++ revTo l k)) ∧ Below B w wr) (fun _ j _ => (intOf j).toNat)
  case atStart => exact ⟨0, N, rfl, rfl, by omega, by rw [revTo_zero]; exact ho', Below.refl _ _⟩
  case round =>
    obtain ⟨k, jn, rfl, rfl, hkj, how, hbr⟩ := hrel
    have hle1 : k ≤ N := by omega
    have hle2 : jn ≤ N := by omega
    have HKJ := hide hkj
    clear hkj
    by_cases hlt : k + 1 < jn
    · obtain ⟨j, rfl⟩ : ∃ j, jn = j + 1 := ⟨jn - 1, by omega⟩
      have hkj : k < j := by omega
      have hjN : j < N := by omega
      have c1 := how.cellAt (S + k) (by omega)
      rw [vals_get _ _ _ (by rw [List.length_append, revTo_length, HN.out, HS.out]; omega)] at c1
      have c2 := how.cellAt (S + j) (by omega)
      rw [vals_get _ _ _ (by rw [List.length_append, revTo_length, HN.out, HS.out]; omega)] at c2
      have q1 := el_app a (revTo l k) k
      have q2 := el_app a (revTo l k) j
      rw [HS.out] at q1 q2
      rw [q1] at c1
      rw [q2] at c2
      clear q1 q2
      have f1 := how.frozenAt (S + k)
      have f2 := how.frozenAt (S + j)
      rw [show (((j + 1 : Nat) : Int) - 1) = (j : Int) from by omega]
      go_wp2
      go_region
      go_wp2
      go_roundw
      case rel =>
        have e1 : el (revTo l k) j = el l j := revTo_el l k j (by rw [HN.out]; omega) (by rw [HN.out]; have := HKJ.out; omega)
        have e2 : el (revTo l k) k = el l k := revTo_el l k k (by rw [HN.out]; omega) (by rw [HN.out]; have := HKJ.out; omega)
        have s1 := (how.stored (S + k) (.int .u8 (el (revTo l k) j : Int))).1
        have s2 := (s1.stored (S + j) (.int .u8 (el (revTo l k) k : Int))).1
        have p1 := set_app a (revTo l k) k (el l j)
        have p2 := set_app a ((revTo l k).set k (el l j)) j (el l k)
        rw [HS.out] at p1 p2
        rw [vals_set, vals_set, e1, e2, p1, p2, revTo_set l k j (by rw [HN.out]; have := HKJ.out; omega) hkj] at s2
        rw [e1, e2]
        exact ⟨k + 1, j, by go_num, rfl, by have := HKJ.out; omega, s2, ((hbr.setCell (by simpa using h3) _).setCell (by simpa using h3) _).drew⟩
      case measure => simp [intOf]; omega
    · go_wp2
      go_end0
      have e : revTo l k = l.reverse := revTo_full l k (by rw [HN.out]; have := HKJ.out; omega)
      refine ⟨rfl, ⟨?_, ?_⟩, hbr⟩
      · rw [← e, List.length_append, revTo_length, HN.out, HS.out]
        have := HAN.out
        subst this
        exact how
      · intro x hx
        rcases List.mem_append.1 hx with h9 | h9
        · exact ha x h9
        · exact hul x (by simpa using h9)
end Go.Proofs.YtpmdbbmichncmaaDoor
