/- container/heap.Init and Pop at a pile; what is taken next. -/
import Derived.Test.YtcddoognlhpaaaaPHea
namespace Go.Proofs.Ytcddoognlhpaaaa
open Go.RowKit
set_option linter.unusedVariables false

theorem Pile.cell {w0 w : World} {P g : Nat} {l : List (List Nat)} (h : Pile w0 P g w l) : ∃ a cap, w.cell? ⟨P, 0, none⟩ = some (.slice a l.length cap) := by
  obtain ⟨h0, h1, h2, h3, a, cap, h4, h5, h6, h7⟩ := h
  exact ⟨a, cap, by rw [cell_at h4]; rfl⟩
theorem Pile.pop {w0 w : World} {P g n cap : Nat} {l : List (List Nat)} (h : Pile w0 P g w l) (hn : l.length = n + 1) (hc : n ≤ cap) (hm : cap ≤ maxLen) :
    Pile w0 P g (w.setCell ⟨P, 0, none⟩ (.slice (some ⟨g, 0, none⟩) n cap)) (l.take n) := by
  obtain ⟨h0, h1, h2, h3, a, cap', h4, h5, h6, h7⟩ := h
  obtain ⟨rfl, cur, hg, hh⟩ := h7 (by omega)
  have e : (l.take n).length = n := by rw [List.length_take]; omega
  refine ⟨h0.setCell (by exact h1) _, h1, h2, h3, some ⟨g, 0, none⟩, cap, ?_, by omega, hm, fun _ => ⟨rfl, cur, ?_, hh.take n⟩⟩
  · rw [heap_setCell_same _ _ _ _ _ _ h4, e]; rfl
  · rw [heap_setCell_other _ _ _ _ h3]; exact hg

set_option maxHeartbeats 1000000 in
theorem ppop_any (w0 w : World) (P g : Nat) (l : List (List Nat)) (n : Nat) (h : Pile w0 P g w l) (hn : l.length = n + 1) :
    Calls Try.prog 47 #[.pointer (some ⟨P, 0, none⟩)] w fun e w' => ∃ u, e = .returned (.iface 25 u) ∧ Row .u8 256 w0 u (tx l n) ∧ Tidy u ∧ Pile w0 P g w' (l.take n) ∧ Alt g P w w' := by
  obtain ⟨cap, cur, hp, hc1, hc2, hg, hh, hb⟩ := h.form (by omega)
  obtain ⟨_, e1, r1, t1⟩ := hh n (by omega)
  have R1 := hide r1
  have T1 := hide t1
  obtain ⟨a1, k1, rfl, _⟩ := r1
  generalize hn1 : (tx l n).length = n1 at *
  clear t1 hn1
  have c1 : w.cell? ⟨g, n, none⟩ = some (.slice a1 n1 k1) := by rw [cell_at hg]; exact e1
  have f1 : w.frozen? ⟨P, 0, none⟩ = false := by
    obtain ⟨_, _, _, _, a, cap', h4, _⟩ := h
    exact frozen_of_row w P 0 _ _ h4
  have HP := hide (h.pop hn (cap := cap) (by omega) (by unfold maxLen; omega))
  have HA := hide ((Alt.refl g P w).setCell (p := ⟨P, 0, none⟩) (.inr rfl) (.slice (some ⟨g, 0, none⟩) n cap))
  rw [hn] at hp hc1
  clear hg hh hb e1 h
  go_enter Try.func47, Try.ntmps47
  go_wp2
  go_ret
  exact ⟨_, rfl, R1.out, T1.out, HP.out, HA.out⟩

theorem plen_any (a : Option Addr) (n cap : Nat) (w : World) :
    Calls Try.prog 45 #[.slice a n cap] w fun e w' => e = .returned (.int .i64 n) ∧ w' = w := by
  go_enter Try.func45, Try.ntmps45
  go_wp2
  go_ret
  exact ⟨rfl, rfl⟩

/-- what is taken from a heap: its least text, and the rest is a heap -/
def PopE (w0 : World) (P g : Nat) (l : List (List Nat)) (w : World) (u : Value) (w' : World) : Prop :=
  ∃ x l', Row .u8 256 w0 u x ∧ Tidy u ∧ (x :: l').Perm l ∧ (∀ y ∈ l', lessL y x = false) ∧ Hp 0 l'.length l' ∧ Pile w0 P g w' l' ∧ Alt g P w w'
theorem hp_take {n : Nat} {l : List (List Nat)} (h : Hp 0 n l) : Hp 0 n (l.take n) := by
  intro j h0 h1 h2
  have e : ∀ k, k < n → tx (l.take n) k = tx l k := fun k hk => by unfold tx; rw [List.getElem?_take, if_pos hk]
  rw [e j h1, e _ (by omega)]
  exact h j h0 h1 h2

set_option maxHeartbeats 1000000 in
theorem hpop_any (w0 w : World) (P g : Nat) (l : List (List Nat)) (n : Nat) (h : Pile w0 P g w l) (hn : l.length = n + 1) (hl : l.length ≤ 1000000) (hh : Hp 0 (n + 1) l) :
    Calls Try.prog 27 #[pil P] w fun e w' => ∃ u, e = .returned (.iface 25 u) ∧ PopE w0 P g l w u w' := by
  obtain ⟨cap, cur, c0, _, _, _, _, _⟩ := h.form (by omega)
  have hm1 : (method 168 36 (.pointer (some ⟨P, 0, none⟩)) "Len").run Try.prog w = _ := method_len 167 P w _ c0
  have hm2 : (method 168 36 (.pointer (some ⟨P, 0, none⟩)) "Swap").run Try.prog w = _ := method_swap 167 P w _ c0
  have hm3 : ∀ w : World, (method 168 36 (.pointer (some ⟨P, 0, none⟩)) "Pop").run Try.prog w = _ := fun w => method_pop 167 P w
  have hlen := plen_any (some ⟨g, 0, none⟩) l.length cap w
  have hswap := pswap_any w0 w P g l cap 0 n h (by omega) (by omega)
  have HX := hide (hh.pop (n := n) (by omega))
  have HN := hide hn
  have hnn : ((l.length : Nat) : Int) = (n : Int) + 1 := by omega
  have hnb : n < 1000000 := by omega
  clear hn
  rw [hnn] at hlen
  go_enter Try.func27, Try.ntmps27
  go_wp2_with fail
  refine hlen.mono ?_
  rintro e w1 ⟨rfl, rfl⟩
  clear hlen hm1 hnn
  go_wp2_with fail
  refine hswap.mono ?_
  rintro e w2 ⟨rfl, hp2, ha2⟩
  clear hswap hm2 c0
  have hdown := down_any w0 w2 P g 0 n (swp l 0 n) hp2 (by rw [swp_len, HN.out]; omega) (by rw [swp_len]; exact hl) (Nat.zero_le _) HX.out
  go_wp2_with fail
  refine hdown.mono ?_
  rintro e w3 ⟨⟨b, rfl⟩, l3, hperm, hfar, hhp, hpile, halt⟩
  have HL3 : Hid (l3.length = n + 1) := hide (by rw [hperm.length_eq, swp_len, HN.out])
  have hpop := ppop_any w0 w3 P g l3 n hpile HL3.out
  have HF := hide hfar
  clear hdown hfar
  go_wp2_with fail
  refine hpop.mono ?_
  rintro e w4 ⟨u, rfl, hr, ht, hp4, ha4⟩
  go_wp2
  go_ret
  have e0 : tx l3 n = tx l 0 := (HF.out n (Nat.le_refl _)).trans (swp_at_j (by rw [HN.out]; omega) (by rw [HN.out]; omega))
  obtain ⟨k1, k2⟩ := heap_takes HN.out hh hperm e0
  rw [e0] at hr
  have e1 : (l3.take n).length = n := by rw [List.length_take, HL3.out]; omega
  exact ⟨u, rfl, tx l 0, l3.take n, hr, ht, k1, k2, by rw [e1]; exact hp_take hhp, hp4, (ha2.trans halt).trans ha4⟩

/-- what Init leaves -/
def InitE (w0 : World) (P g : Nat) (l : List (List Nat)) (w w' : World) : Prop := ∃ l', l'.Perm l ∧ Hp 0 l'.length l' ∧ Pile w0 P g w' l' ∧ Alt g P w w'
/-- a heap in the making: from place m on all is well -/
def Making (w0 : World) (P g : Nat) (l : List (List Nat)) (w : World) (m : Nat) (wr : World) : Prop := ∃ l1, l1.Perm l ∧ Hp m l1.length l1 ∧ Pile w0 P g wr l1 ∧ Alt g P w wr

set_option maxHeartbeats 1000000 in
theorem init_any (w0 w : World) (P g : Nat) (l : List (List Nat)) (h : Pile w0 P g w l) (hl : l.length ≤ 1000000) :
    Calls Try.prog 26 #[pil P] w fun e w' => e = .returned (.tuple #[]) ∧ InitE w0 P g l w w' := by
  obtain ⟨a, cap, c0⟩ := h.cell
  have hm1 : (method 168 36 (.pointer (some ⟨P, 0, none⟩)) "Len").run Try.prog w = _ := method_len 167 P w _ c0
  have hlen := plen_any a l.length cap w
  have HS : Hid (Making w0 P g l w (l.length / 2) w) := hide ⟨l, List.Perm.refl _, Hp.none (Nat.le_refl _), h, Alt.refl _ _ _⟩
  clear h
  generalize hN : l.length = N at *
  have HN := hide hN
  clear hN
  go_enter Try.func26, Try.ntmps26
  go_wp2_with fail
  refine hlen.mono ?_
  rintro e w1 ⟨rfl, rfl⟩
  clear hlen hm1 c0
  go_wp2
  go_loopw [3] (fun i wr => ∃ m : Nat, i = .int .i64 ((m : Int) - 1) ∧ m ≤ N ∧ Hid (Making w0 P g l w1 m wr)) (fun i _ => (intOf i + 1).toNat)
  case atStart => exact ⟨N / 2, vint (by omega), by omega, HS⟩
  case round =>
    clear HS
    obtain ⟨m, rfl, hm, HM⟩ := hrel
    by_cases h0 : m = 0
    · subst h0
      have gi : ¬ (0 : Int) ≤ ((0 : Nat) : Int) - 1 := by omega
      go_wp2
      go_end0
      exact ⟨rfl, HM.out⟩
    · obtain ⟨t, rfl⟩ : ∃ t, m = t + 1 := ⟨m - 1, by omega⟩
      rw [show (((t + 1 : Nat) : Int) - 1) = (t : Int) from by omega]
      have gi : (0 : Int) ≤ (t : Int) := by omega
      obtain ⟨l1, hp1, hh1, hpile, halt⟩ := HM.out
      have HL1 : Hid (l1.length = N) := hide (by rw [hp1.length_eq, HN.out])
      have hh1' := hh1.toX
      rw [HL1.out] at hh1'
      have hdown := down_any w0 wr P g t N l1 hpile (by rw [HL1.out]; omega) (by rw [HL1.out]; omega) (by omega) hh1'
      clear hh1 hh1' hpile HM
      go_wp2_with fail
      refine hdown.mono ?_
      rintro e w2 ⟨⟨b, rfl⟩, l2, hperm, hfar, hhp, hpile2, halt2⟩
      have HM2 : Hid (Making w0 P g l w1 t w2) := hide ⟨l2, hperm.trans hp1, by rw [hperm.length_eq, HL1.out]; exact hhp, hpile2, halt.trans halt2⟩
      clear hdown hfar hhp hpile2 halt2 hperm halt hp1
      go_wp2
      go_roundw
      case rel => exact ⟨t, rfl, by omega, HM2⟩
      case measure => simp [intOf]

set_option maxHeartbeats 1000000 in
theorem next_none (w0 w : World) (P g : Nat) (h : Pile w0 P g w []) :
    Calls Try.prog 23 #[.pointer (some ⟨P, 0, none⟩)] w fun e w' => e = .returned (.tuple #[.slice none 0 0, .bool false]) ∧ w' = w := by
  obtain ⟨a, cap, c0⟩ := h.cell
  clear h
  go_enter Try.func23, Try.ntmps23
  go_wp2
  go_ret2
  exact ⟨rfl, rfl⟩
theorem assert_ok (u : Value) (w : World) : (Instr.typeAssert (.iface 25 u) 20 25 true).run Try.prog w = .ok (.tuple #[u, .bool true]) w := by kernel_rfl
set_option maxHeartbeats 1000000 in
theorem next_some (w0 w : World) (P g : Nat) (l : List (List Nat)) (n : Nat) (h : Pile w0 P g w l) (hn : l.length = n + 1) (hl : l.length ≤ 1000000) (hh : Hp 0 l.length l) :
    Calls Try.prog 23 #[.pointer (some ⟨P, 0, none⟩)] w fun e w' => ∃ u, e = .returned (.tuple #[u, .bool true]) ∧ PopE w0 P g l w u w' := by
  obtain ⟨a, cap, c0⟩ := h.cell
  have hpop := hpop_any w0 w P g l n h hn hl (by rw [← hn]; exact hh)
  have h0 : (((n : Int) + 1) == 0) = false := by simp; omega
  rw [hn] at c0
  clear h hh hn
  go_enter Try.func23, Try.ntmps23
  go_wp2_with fail
  refine hpop.mono ?_
  rintro e w1 ⟨u, rfl, hE⟩
  have hta := fun w => assert_ok u w
  go_wp2
  go_ret2
  exact ⟨u, rfl, hE⟩
end Go.Proofs.Ytcddoognlhpaaaa
