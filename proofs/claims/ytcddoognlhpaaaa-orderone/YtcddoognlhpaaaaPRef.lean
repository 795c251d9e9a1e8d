/- The document's own: lay, Sort, Merge. -/
import Derived.Test.YtcddoognlhpaaaaPDrn
namespace Go.Proofs.Ytcddoognlhpaaaa
open Go.RowKit Go.Deep
set_option linter.unusedVariables false

theorem Texts.take {w : World} {us : List Value} {l : List (List Nat)} (h : Texts w us l) (k : Nat) : Texts w (us.take k) (l.take k) := by
  refine ⟨by rw [List.length_take, List.length_take, h.1], fun i hi => ?_⟩
  rw [List.length_take] at hi
  obtain ⟨u, hu, hr⟩ := h.2 i (by omega)
  have e : tx (l.take k) i = tx l i := by unfold tx; rw [List.getElem?_take, if_pos (by omega)]
  exact ⟨u, by rw [List.getElem?_take, if_pos (by omega)]; exact hu, by rw [e]; exact hr⟩
theorem Texts.drop {w : World} {us : List Value} {l : List (List Nat)} (h : Texts w us l) (k : Nat) : Texts w (us.drop k) (l.drop k) := by
  refine ⟨by rw [List.length_drop, List.length_drop, h.1], fun i hi => ?_⟩
  rw [List.length_drop] at hi
  obtain ⟨u, hu, hr⟩ := h.2 (k + i) (by omega)
  have e : tx (l.drop k) i = tx l (k + i) := by unfold tx; rw [List.getElem?_drop]
  exact ⟨u, by rw [List.getElem?_drop]; exact hu, by rw [e]; exact hr⟩
theorem rnil (w : World) : Rows2 w (.slice none 0 0) [] := ⟨none, 0, rfl, Nat.le_refl _, Nat.zero_le _, fun h => by simp at h⟩
/-- what is told: a slice of these texts; what was there is as it was -/
def Tells2 (w : World) (l : List (List Nat)) (e : Ending) (w' : World) : Prop := ∃ v, e = .returned v ∧ Rows2 w' v l ∧ Below w.heap.size w w'
/-- a list's elements, one of them at a place more -/
def LayS (w : World) (l : List (List Nat)) (x : List Nat) (us : List Value) (vo : Value) (k : Nat) (wr : World) : Prop :=
  wr.ownsRow w.heap.size 25 1 vo k (us.take k) ∧ Below w.heap.size w wr ∧ ∀ i, i < k → lessL x (tx l i) = false
theorem news_drop {w wr : World} {us : List Value} {b off k m : Nat} (h : ∀ j u, us[j]? = some u → w.cell? ⟨b, off + j, none⟩ = some u) (hb : Below w.heap.size w wr) :
    0 < m → ∃ b' off', some (⟨b, off + k, none⟩ : Addr) = some ⟨b', off', none⟩ ∧ ∀ j u, (us.drop k)[j]? = some u → wr.cell? ⟨b', off' + j, none⟩ = some u := by
  intro _
  refine ⟨b, off + k, rfl, fun j u hj => ?_⟩
  rw [List.getElem?_drop] at hj
  have c := h _ u hj
  rw [← Nat.add_assoc] at c
  rw [hb.cell (p := ⟨b, off + k + j, none⟩) (World.block_lt_of_cell? w _ c)]
  exact c
theorem lay_done {w w' : World} {l : List (List Nat)} {x : List Nat} {us : List Value} {vx v : Value} {k : Nat} (hT : Texts w us l) (hx : Row .u8 256 w vx x) (ht : Tidy vx) (hk : k ≤ l.length) (hu : upTo x l = k)
    (ho : w'.ownsRow w.heap.size 25 1 v (k + 1 + (l.length - k)) (us.take k ++ [vx] ++ us.drop k)) (hb : Below w.heap.size w w') : Tells2 w (layL l x) (.returned v) w' := by
  have h := (((hT.take k).append (Texts.one hx ht)).append (hT.drop k)).below hb
  have e : layL l x = l.take k ++ [x] ++ l.drop k := by unfold layL; rw [hu]; simp
  have el : (layL l x).length = k + 1 + (l.length - k) := by rw [e]; simp; omega
  refine ⟨v, rfl, ?_, hb⟩
  rw [e] at el ⊢
  exact h.rows2 (by rw [el]; exact ho)
theorem below_app {B : Nat} {w wr w' : World} {e : TypeId} {v : Value} {k : Nat} {xs : List Value} (hb : Below B w wr) (hs : B ≤ wr.heap.size) (o : Obj) (how : wr.ownsRow B e 1 v k xs) (hg : (wr.alloc o).grownBy w' v.ownBlock) : Below B w w' := below_append hb hs how o hg

set_option maxHeartbeats 4000000 in
theorem rlay_any (vl vx : Value) (l : List (List Nat)) (x : List Nat) (w : World) (hr : Rows2 w vl l) (hx : Row .u8 256 w vx x) (ht : Tidy vx) (hl : l.length ≤ 1000000) :
    Calls Try.prog 24 #[vl, vx] w fun e w' => Tells2 w (layL l x) e w' := by
  obtain ⟨us, a, cap, rfl, hc1, hc2, hT, hcells⟩ := hr.texts
  obtain ⟨i1, hj, hy0, hy1, hy2⟩ := info_text
  have hul := hT.1
  have hones := hT.cells
  have HX := hide hx
  have HT := hide hT
  have HTX := hide ht
  obtain ⟨xa, xc, rfl, _⟩ := hx
  have HS : Hid (LayS w l x us (.slice none 0 0) 0 w) := hide ⟨World.ownsRow_nil _ _ _ _, Below.refl _ _, fun i hi => by omega⟩
  clear hr hT ht
  go_enter Try.func24, Try.ntmps24
  go_wp2
  go_loopw [5, 6] (fun vo i wr => ∃ k : Nat, k ≤ l.length ∧ i = .int .i64 k ∧ Hid (LayS w l x us vo k wr)) (fun _ i _ => l.length - (intOf i).toNat)
  case atStart => exact ⟨0, Nat.zero_le _, rfl, HS⟩
  case round =>
    clear HS
    obtain ⟨k, hk, rfl, HS⟩ := hrel
    obtain ⟨how, hbr, hall⟩ := HS.out
    have HA := hide hall
    have hsz := hbr.size
    clear HS hall
    by_cases hlt : k < l.length
    · obtain ⟨b, off, rfl, hcc⟩ := hcells (by omega)
      obtain ⟨u, hu, hur, hut⟩ := HT.out.2 k hlt
      have c0 := hcc k u hu
      have c1 : wr.cell? ⟨b, off + k, none⟩ = some u := by rw [hbr.cell (p := ⟨b, off + k, none⟩) (World.block_lt_of_cell? w _ c0)]; exact c0
      have hcall := rless_any (.slice xa x.length xc) u x (tx l k) wr (HX.out.below hbr) (hur.below hbr)
      obtain ⟨ua, uc, rfl, _⟩ := hur
      generalize hun : (tx l k).length = un at *
      clear hun
      cases hd : lessL x (tx l k) with
      | true =>
        rw [hd] at hcall
        have HU : Hid (upTo x l = k) := hide (upTo_is HA.out (.inr ⟨hlt, hd⟩))
        clear hd
        go_wp2_with fail
        refine hcall.mono ?_
        rintro e w1 ⟨rfl, hdr⟩
        have hbd := Drew.below hdr
        have hb1 := keep_trans hbr hbd
        have how1 := own_kept how hbd
        have hsz1 := hb1.size
        clear hcall how hbr hdr c1 c0 hu hbd
        go_wp2_with (first
          | (at_builtin; refine wpList_append_rows _ rfl _ _ 22 22 25 rfl Try.underlying22 w.heap.size 25 i1 (.slice none 0 0) 24 Try.underlying22 hj hy0 hy1 hy2 rfl _ _ _ rfl (how1.alloc _) (some ⟨w1.heap.size, 0, none⟩) 1 1 [.slice xa x.length xc] rfl rfl (fun _ => ⟨_, _, rfl, cells_new1 w1 _ _⟩) (by simp [Value.oneCell']) (by unfold maxLen; omega) (by omega) (by simp; omega) ?_; intro v3 w3 how3 hg3; have hb3 := below_app hb1 hsz1 _ how1 hg3; have hsz3 := hb3.size)
          | (at_builtin; refine wpList_append_rows _ rfl _ _ 22 22 25 rfl Try.underlying22 w.heap.size 25 i1 (.slice none 0 0) 24 Try.underlying22 hj hy0 hy1 hy2 rfl _ _ _ rfl how3 (some ⟨b, off + k, none⟩) (l.length - k) (cap - k) (us.drop k) rfl (by rw [List.length_drop, hul]) (news_drop hcc hb3) (fun y hy => hones y (List.mem_of_mem_drop hy)) (by unfold maxLen; omega) (by omega) hsz3 ?_; intro v4 w4 how4 hg4)
          | fail)
        all_goals go_ret
        all_goals exact lay_done HT.out HX.out HTX.out hk HU.out how4 (below_append' hb3 hsz3 how3 hg4)
      | false =>
        rw [hd] at hcall
        have HD := hide hd
        clear hd
        go_wp2_with fail
        refine hcall.mono ?_
        rintro e w1 ⟨rfl, hdr⟩
        have hbd := Drew.below hdr
        have hb1 := keep_trans hbr hbd
        have how1 := own_kept how hbd
        have hsz1 := hb1.size
        have c2 : w1.cell? ⟨b, off + k, none⟩ = some (.slice ua un uc) := by rw [hbd.cell (p := ⟨b, off + k, none⟩) (World.block_lt_of_cell? wr _ c1)]; exact c1
        clear hcall how hbr hdr c1 c0 hbd
        go_wp2_with (first
          | (at_builtin; refine wpList_append_rows _ rfl _ _ 22 22 25 rfl Try.underlying22 w.heap.size 25 i1 (.slice none 0 0) 24 Try.underlying22 hj hy0 hy1 hy2 rfl _ _ _ rfl (how1.alloc _) (some ⟨w1.heap.size, 0, none⟩) 1 1 [.slice ua un uc] rfl rfl (fun _ => ⟨_, _, rfl, cells_new1 w1 _ _⟩) (by simp [Value.oneCell']) (by unfold maxLen; omega) (by omega) (by simp; omega) ?_; intro v3 w3 how3 hg3)
          | fail)
        have hb3 := below_app hb1 hsz1 _ how1 hg3
        have HS3 : Hid (LayS w l x us v3 (k + 1) w3) := hide ⟨by rw [List.take_add_one, hu]; exact how3, hb3, fun i hi => by
          by_cases hik : i = k
          · subst hik; exact HD.out
          · exact HA.out i (by omega)⟩
        first
          | exact ⟨⟨k + 1, by omega, by go_num, HS3⟩, by simp [intOf]; omega⟩
          | (go_roundw
             case rel => exact ⟨k + 1, by omega, by go_num, HS3⟩
             case measure => simp [intOf]; omega)
    · have hkl : k = l.length := by omega
      have HU : Hid (upTo x l = k) := hide (upTo_is HA.out (.inl hkl))
      have how1 := how
      have hb1 := hbr
      have hsz1 := hsz
      cases a with
      | none =>
        have hl0 : ¬ 0 < l.length := fun h => by obtain ⟨_, _, h', _⟩ := hcells h; cases h'
        have hz : l.length = 0 := by omega
        have hk0 : k = 0 := by omega
        subst hk0
        have HZ := hide hz
        clear hkl hlt
        go_wp2_with (first
          | (at_builtin; refine wpList_append_rows _ rfl _ _ 22 22 25 rfl Try.underlying22 w.heap.size 25 i1 (.slice none 0 0) 24 Try.underlying22 hj hy0 hy1 hy2 rfl _ _ _ rfl (how1.alloc _) (some ⟨wr.heap.size, 0, none⟩) 1 1 [.slice xa x.length xc] rfl rfl (fun _ => ⟨_, _, rfl, cells_new1 wr _ _⟩) (by simp [Value.oneCell']) (by unfold maxLen; omega) (by omega) (by simp; omega) ?_; intro v3 w3 how3 hg3; have hb3 := below_app hb1 hsz1 _ how1 hg3; have hsz3 := hb3.size)
          | (at_builtin; refine wpList_append_rows _ rfl _ _ 22 22 25 rfl Try.underlying22 w.heap.size 25 i1 (.slice none 0 0) 24 Try.underlying22 hj hy0 hy1 hy2 rfl _ _ _ rfl how3 none 0 _ [] rfl rfl (fun h => absurd h (by omega)) (fun y hy => by cases hy) (by unfold maxLen; omega) (by omega) hsz3 ?_; intro v4 w4 how4 hg4)
          | fail)
        all_goals go_ret
        all_goals exact lay_done HT.out HX.out HTX.out hk HU.out (by rw [show l.length - 0 = 0 by omega, show us.drop 0 = [] from List.drop_eq_nil_of_le (by omega)]; exact how4) (below_append' hb3 hsz3 how3 hg4)
      | some A =>
        obtain ⟨b, off, spot⟩ := A
        go_wp2_with (first
          | (at_builtin; refine wpList_append_rows _ rfl _ _ 22 22 25 rfl Try.underlying22 w.heap.size 25 i1 (.slice none 0 0) 24 Try.underlying22 hj hy0 hy1 hy2 rfl _ _ _ rfl (how1.alloc _) (some ⟨wr.heap.size, 0, none⟩) 1 1 [.slice xa x.length xc] rfl rfl (fun _ => ⟨_, _, rfl, cells_new1 wr _ _⟩) (by simp [Value.oneCell']) (by unfold maxLen; omega) (by omega) (by simp; omega) ?_; intro v3 w3 how3 hg3; have hb3 := below_app hb1 hsz1 _ how1 hg3; have hsz3 := hb3.size)
          | (at_builtin; refine wpList_append_rows _ rfl _ _ 22 22 25 rfl Try.underlying22 w.heap.size 25 i1 (.slice none 0 0) 24 Try.underlying22 hj hy0 hy1 hy2 rfl _ _ _ rfl how3 _ 0 _ [] rfl rfl (fun h => absurd h (by omega)) (fun y hy => by cases hy) (by unfold maxLen; omega) (by omega) hsz3 ?_; intro v4 w4 how4 hg4)
          | fail)
        all_goals go_ret
        all_goals exact lay_done HT.out HX.out HTX.out hk HU.out (by rw [show l.length - k = 0 by omega, show us.drop k = [] from List.drop_eq_nil_of_le (by omega)]; exact how4) (below_append' hb3 hsz3 how3 hg4)
end Go.Proofs.Ytcddoognlhpaaaa
