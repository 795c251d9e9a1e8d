/- order.pileOf, order.Sort, order.Merge. -/
import Derived.Test.YtcddoognlhpaaaaPDrn
namespace Go.Proofs.Ytcddoognlhpaaaa
open Go.RowKit Go.Deep
set_option linter.unusedVariables false

/-- a list of lists at a place -/
def lx (LS : List (List (List Nat))) (i : Nat) : List (List Nat) := LS[i]?.getD []
theorem lx_succ {LS : List (List (List Nat))} {k : Nat} (h : k < LS.length) : (LS.take (k + 1)).flatten = (LS.take k).flatten ++ lx LS k := by
  rw [List.take_succ_eq_append_getElem h, List.flatten_append, List.flatten_singleton]; unfold lx; rw [List.getElem?_eq_getElem h]; rfl
theorem lx_le (LS : List (List (List Nat))) (k : Nat) : (LS.take k).flatten.length ≤ LS.flatten.length := by
  have : LS.flatten = (LS.take k).flatten ++ (LS.drop k).flatten := by rw [← List.flatten_append, List.take_append_drop]
  rw [this]; simp
/-- a pile in the making -/
def PoS (w0 w : World) (P : Nat) (l : List (List Nat)) (wr : World) : Prop :=
  ∃ v us, wr.heap[P]? = some (.cells #[v] 41) ∧ wr.ownsRow (P + 1) 25 1 v l.length us ∧ Texts w0 us l ∧ Below w0.heap.size w0 wr ∧ Below P w wr ∧ P + 1 ≤ wr.heap.size
theorem PoS.pile {w0 w wr : World} {P L : Nat} {l : List (List Nat)} (h : PoS w0 w P l wr) (h0 : w0.heap.size ≤ L) (hL : L < P) : ∃ g, Pile w0 P g wr l ∧ g < wr.heap.size := by
  obtain ⟨v, us, h1, ⟨h2, ⟨rfl, h3⟩ | ⟨g, cap, cur, rfl, h3, h4, h5, h6, h7, h8⟩⟩, h9, h10, h11, h12⟩ := h
  · exact ⟨L, ⟨h10, by omega, h0, by omega, none, 0, by rw [h3]; exact h1, by omega, Nat.zero_le _, fun hl => by omega⟩, by omega⟩
  · have hlt : g < wr.heap.size := by
      rcases Nat.lt_or_ge g wr.heap.size with hlt | hge
      · exact hlt
      · rw [Array.getElem?_eq_none hge] at h4; cases h4
    refine ⟨g, ⟨h10, by omega, by omega, by omega, _, cap, h1, h5, h6, fun _ => ⟨rfl, cur, h4, fun i hi => ?_⟩⟩, hlt⟩
    obtain ⟨u, hu, hr⟩ := h9.2 i hi
    refine ⟨u, ?_, hr⟩
    rw [← h8, List.getElem?_take, if_pos (by omega)] at hu
    simpa using hu

/-- what pileOf tells -/
def PoE (w0 : World) (l : List (List Nat)) (e : Ending) (w' : World) : Prop :=
  ∃ P g l', e = .returned (.pointer (some ⟨P, 0, none⟩)) ∧ Pile w0 P g w' l' ∧ l'.Perm l ∧ Hp 0 l'.length l' ∧ P < w'.heap.size ∧ g < w'.heap.size

theorem news_below {w0 wr : World} {a : Option Addr} {m : Nat} {us : List Value} (h : 0 < m → ∃ b off, a = some ⟨b, off, none⟩ ∧ ∀ j u, us[j]? = some u → w0.cell? ⟨b, off + j, none⟩ = some u) (hb : Below w0.heap.size w0 wr) :
    0 < m → ∃ b off, a = some ⟨b, off, none⟩ ∧ ∀ j u, us[j]? = some u → wr.cell? ⟨b, off + j, none⟩ = some u := by
  intro hm
  obtain ⟨b, off, rfl, hc⟩ := h hm
  refine ⟨b, off, rfl, fun j u hj => ?_⟩
  have c := hc j u hj
  rw [hb.cell (p := ⟨b, off + j, none⟩) (World.block_lt_of_cell? w0 _ c)]
  exact c

set_option maxHeartbeats 4000000 in
theorem pileOf_any (w0 w : World) (L : Nat) (LS : List (List (List Nat))) (vs : Array Value) (hb : Below w0.heap.size w0 w) (hL : w0.heap.size ≤ L) (hv : w.heap[L]? = some (.cells vs 22))
    (hLS : ∀ i, i < LS.length → ∃ v, vs[i]? = some v ∧ Rows2 w0 v (lx LS i)) (hk : LS.length ≤ 10) (htot : LS.flatten.length ≤ 1000000) :
    Calls Try.prog 22 #[.slice (some ⟨L, 0, none⟩) LS.length LS.length] w fun e w' => PoE w0 LS.flatten e w' := by
  have hLlt : L < w.heap.size := by
    rcases Nat.lt_or_ge L w.heap.size with hlt | hge
    · exact hlt
    · rw [Array.getElem?_eq_none hge] at hv; cases hv
  obtain ⟨i1, hj, hy0, hy1, hy2⟩ := info_text
  have HS : Hid (PoS w0 w w.heap.size [] (w.alloc (.cells #[.slice none 0 0] 41))) := hide ⟨.slice none 0 0, [], heap_alloc_new w _, World.ownsRow_nil _ _ _ _, Texts.nil _, hb.alloc hb.size _, (Below.refl _ _).alloc (Nat.le_refl _) _, by simp⟩
  generalize hP : w.heap.size = P at *
  have HP := hide hP
  clear hP
  go_enter Try.func22, Try.ntmps22
  go_wp2
  try rw [HP.out]
  go_loopw [8] (fun i wr => ∃ k : Nat, k ≤ LS.length ∧ i = .int .i64 k ∧ Hid (PoS w0 w P (LS.take k).flatten wr)) (fun i _ => LS.length - (intOf i).toNat)
  case atStart => exact ⟨0, Nat.zero_le _, rfl, HS⟩
  case round =>
    clear HS
    obtain ⟨k, hkl, rfl, HS⟩ := hrel
    by_cases hlt : k < LS.length
    · have HF := hide (lx_succ hlt)
      have hle := lx_le LS (k + 1)
      rw [HF.out, List.length_append] at hle
      obtain ⟨v, us, h1, how, h9, h10, h11, h12⟩ := HS.out
      obtain ⟨vk, hvk, hrows⟩ := hLS k hlt
      obtain ⟨us', a', cap', rfl, hc1, hc2, htx, hnews⟩ := hrows.texts
      have c1 : wr.cell? ⟨L, k, none⟩ = some (.slice a' (lx LS k).length cap') := by rw [cell_at ((h11.block L hLlt).trans hv)]; exact hvk
      have c2 : wr.cell? ⟨P, 0, none⟩ = some v := by rw [cell_at h1]; rfl
      have hnews' := news_below hnews h10
      have hl' := htx.1
      have hones := htx.cells
      obtain ⟨va, vc, rfl⟩ := own_slice how
      have H1 := hide h1
      have HTX := hide (h9.append htx)
      clear HS h1 hrows hnews hvk h9 htx
      generalize hm : (lx LS k).length = m at *
      have HM := hide hm
      clear hm
      generalize hn : (LS.take k).flatten.length = n at *
      have HN := hide hn
      clear hn
      go_wp2_with (first
        | (at_builtin; refine wpList_append_rows _ rfl _ _ 41 22 25 rfl Try.underlying22 (P + 1) 25 i1 (.slice none 0 0) 24 Try.underlying41 hj hy0 hy1 hy2 rfl _ _ _ rfl how a' m cap' us' rfl hl' hnews' hones (by unfold maxLen; omega) (by omega) h12 ?_; intro v3 w3 how3 hg3; obtain ⟨ta, tc, rfl⟩ := own_slice how3
           have hbl : w3.heap[P]? = wr.heap[P]? := hg3.block P (by omega) (fun e => by have := (how.lt P e.symm).1; omega)
           have c3 : w3.cell? ⟨P, 0, none⟩ = some (.slice va n vc) := by rw [World.cell?_of_block (w := wr) hbl]; exact c2
           have f3 : w3.frozen? ⟨P, 0, none⟩ = false := frozen_of_row w3 P 0 _ _ (hbl.trans H1.out))
        | fail)
      have HS3 : Hid (PoS w0 w P (LS.take (k + 1)).flatten (w3.setCell ⟨P, 0, none⟩ (.slice ta (n + m) tc))) := hide ⟨.slice ta (n + m) tc, us ++ us', by rw [heap_setCell_same w3 P 0 _ _ _ (hbl.trans H1.out)]; rfl,
        by rw [HF.out, List.length_append, HN.out, HM.out]; exact ownsRow_setCell_below how3 (by exact Nat.lt_succ_self P) _, by rw [HF.out]; exact HTX.out,
        (h10.grown hg3 h10.size (fun x e => by have := (how.lt x e).1; have := hb.size; have := HP.out; omega)).setCell (by have := hb.size; have := HP.out; simp; omega) _,
        (h11.grown hg3 (by omega) (fun x e => by have := (how.lt x e).1; omega)).setCell (Nat.le_refl _) _, by have := hg3.size; simp; omega⟩
      exact ⟨⟨k + 1, by omega, by go_num, HS3⟩, by simp [intOf]; omega⟩
    · have hend : LS.take k = LS := List.take_of_length_le (by omega)
      rw [hend] at HS
      obtain ⟨g, hpile, hgl⟩ := HS.out.pile hL hLlt
      have hinit := init_any w0 wr P g LS.flatten hpile htot
      obtain ⟨_, _, h1, _, _, _, _, h12⟩ := HS.out
      clear HS hpile h1
      go_wp2_with fail
      refine hinit.mono ?_
      rintro e w3 ⟨rfl, l', hp1, hp2, hp3, hp4⟩
      have hs4 := hp4.size
      go_wp2
      go_ret
      exact ⟨P, g, l', rfl, hp3, hp1, hp2, by omega, by omega⟩

set_option maxHeartbeats 1000000 in
theorem sort_any (v : Value) (l : List (List Nat)) (w : World) (h : Rows2 w v l) (hl : l.length ≤ 1000000) (hS : ∀ t ∈ l, t.length ≤ 1000000) :
    Calls Try.prog 11 #[v] w fun e w' => DrE w l e w' := by
  obtain ⟨a, cap, rfl, _, _, _⟩ := h.opens
  have hpo := pileOf_any w (w.alloc (.cells #[.slice a l.length cap] 22)) w.heap.size [l] #[.slice a l.length cap] (keep_alloc _ _) (Nat.le_refl _) (heap_alloc_new w _)
    (fun i hi => by
      have h0 : i = 0 := by simp at hi; omega
      subst h0
      exact ⟨_, rfl, h⟩) (by simp) (by simpa using hl)
  rw [List.flatten_singleton] at hpo
  have hmf : ∀ (fn : Fn) (first cap : Array Value) (w : World), (Instr.makeFunc fn first cap).run Try.prog w = .ok (.func fn first cap) w := fun _ _ _ _ => rfl
  clear h
  go_enter Try.func11, Try.ntmps11
  go_wp2_with fail
  refine hpo.mono ?_
  rintro e w1 ⟨P, g, l', rfl, h1, h2, h3, h4, h5⟩
  have hdr := drain_any w w1 P g l' h1 h3 (by rw [h2.length_eq]; exact hl) (fun t ht => hS t (h2.subset ht)) h4 h5
  clear hpo h1
  go_wp2_with fail
  refine hdr.mono ?_
  rintro e w2 ⟨o, rfl, h6, h7⟩
  rw [sort_same h2] at h6
  go_wp2
  go_ret
  exact ⟨o, rfl, h6, h7⟩

set_option maxHeartbeats 1000000 in
theorem merge_any (va vb : Value) (a b : List (List Nat)) (w : World) (ha : Rows2 w va a) (hb : Rows2 w vb b) (hl : a.length + b.length ≤ 1000000) (hA : ∀ t ∈ a, t.length ≤ 1000000) (hB : ∀ t ∈ b, t.length ≤ 1000000) :
    Calls Try.prog 17 #[va, vb] w fun e w' => ∃ o, e = .returned o ∧ Rows2 w' o (mergeL a b) ∧ Below w.heap.size w w' := by
  have hmf : ∀ (fn : Fn) (first cap : Array Value) (w : World), (Instr.makeFunc fn first cap).run Try.prog w = .ok (.func fn first cap) w := fun _ _ _ _ => rfl
  have hsa := sorted_any va a w ha
  have hnil : ∀ w : World, Rows2 w (.slice none 0 0) [] := fun w => ⟨none, 0, rfl, Nat.le_refl _, Nat.zero_le _, fun h => by simp at h⟩
  cases hda : sortedB a with
  | false =>
    have HM : Hid (mergeL a b = []) := hide (by unfold mergeL; rw [if_neg (fun h => by rw [hda] at h; cases h.1)])
    rw [hda] at hsa
    clear hda
    go_enter Try.func17, Try.ntmps17
    go_wp2_with fail
    refine hsa.mono ?_
    rintro e w1 ⟨rfl, hd1⟩
    go_wp2
    go_ret
    exact ⟨_, rfl, by rw [HM.out]; exact hnil _, hd1.below⟩
  | true =>
    rw [hda] at hsa
    cases hdb : sortedB b with
    | false =>
      have HM : Hid (mergeL a b = []) := hide (by unfold mergeL; rw [if_neg (fun h => by rw [hdb] at h; cases h.2)])
      clear hda
      go_enter Try.func17, Try.ntmps17
      go_wp2_with fail
      refine hsa.mono ?_
      rintro e w1 ⟨rfl, hd1⟩
      have hsb := sorted_any vb b w1 (hd1.rows hb)
      rw [hdb] at hsb
      clear hdb hsa
      go_wp2_with fail
      refine hsb.mono ?_
      rintro e w2 ⟨rfl, hd2⟩
      go_wp2
      go_ret
      exact ⟨_, rfl, by rw [HM.out]; exact hnil _, keep_trans hd1.below hd2.below⟩
    | true =>
      have HM : Hid (mergeL a b = sortL (a ++ b)) := hide (by unfold mergeL; rw [if_pos ⟨hda, hdb⟩])
      clear hda
      obtain ⟨aa, ca, rfl, _, _, _⟩ := ha.opens
      obtain ⟨ab, cb, rfl, _, _, _⟩ := hb.opens
      go_enter Try.func17, Try.ntmps17
      go_wp2_with fail
      refine hsa.mono ?_
      rintro e w1 ⟨rfl, hd1⟩
      have hsb := sorted_any _ b w1 (hd1.rows hb)
      rw [hdb] at hsb
      clear hdb hsa
      go_wp2_with fail
      refine hsb.mono ?_
      rintro e w2 ⟨rfl, hd2⟩
      have hb2 := keep_trans hd1.below hd2.below
      have ha2 := ha.below hb2
      have hbb2 := hb.below hb2
      have hpo := pileOf_any w2 (w2.alloc (.cells #[.slice aa a.length ca, .slice ab b.length cb] 22)) w2.heap.size [a, b] #[.slice aa a.length ca, .slice ab b.length cb] (keep_alloc _ _) (Nat.le_refl _) (heap_alloc_new w2 _)
        (fun i hi => by
          rcases (by simp at hi; omega : i = 0 ∨ i = 1) with h0 | h0 <;> subst h0
          · exact ⟨_, rfl, ha2⟩
          · exact ⟨_, rfl, hbb2⟩) (by simp) (by simp; omega)
      rw [show [a, b].flatten = a ++ b by simp] at hpo
      clear ha hb ha2 hbb2 hsb
      go_wp2_with fail
      refine hpo.mono ?_
      rintro e w3 ⟨P, g, l', rfl, h1, h2, h3, h4, h5⟩
      have hdr := drain_any w2 w3 P g l' h1 h3 (by rw [h2.length_eq, List.length_append]; exact hl) (fun t ht => by
        rcases List.mem_append.1 (h2.subset ht) with h | h
        · exact hA t h
        · exact hB t h) h4 h5
      clear hpo h1
      go_wp2_with fail
      refine hdr.mono ?_
      rintro e w4 ⟨o, rfl, h6, h7⟩
      rw [sort_same h2] at h6
      go_wp2
      go_ret
      exact ⟨o, rfl, by rw [HM.out]; exact h6, keep_trans hb2 h7⟩
end Go.Proofs.Ytcddoognlhpaaaa
