/- The parts of a value of a tag: value's Kids, the document's. -/
import Derived.Test.YtlddpjcacnahmaaGreatDoorVClo
import Derived.Test.YtlddpjcacnahmaaGreatDoorPCmp
import Derived.RegionTactic
import Derived.BigRegion
import Derived.Test.YtlddpjcacnahmaaGreatDoorVCop
import Derived.Test.YtlddpjcacnahmaaGreatDoorDerM
namespace Go.Proofs.YtlddpjcacnahmaaGreatDoor
open Go.RowKit Go.Deep
set_option linter.unusedVariables false
set_option linter.unusedSimpArgs false

/-- whether a value is one of parts, and of a tag: 0, or what is wrong -/
def kdR (tag : Int) : Nd → Int
  | .mk t b ks => if t ≠ tag ∨ boxedB tag = false then 4 else if b.length ≠ 0 then 5 else 0
def kdO (tag : Int) : Nd → List Nd
  | .mk t b ks => if kdR tag (.mk t b ks) = 0 then ks else []
theorem kdO_ok {tag t : Int} {b : List Nat} {ks : List Nd} (h : kdR tag (.mk t b ks) = 0) : kdO tag (.mk t b ks) = ks := by rw [kdO, if_pos h]
theorem kdO_no {tag t : Int} {b : List Nat} {ks : List Nd} (h : kdR tag (.mk t b ks) ≠ 0) : kdO tag (.mk t b ks) = [] := by rw [kdO, if_neg h]
def KofE (tag : Int) (x : Nd) (w : World) (e : Ending) (w' : World) : Prop := (∃ d a n c, e = .returned (.tuple #[.slice a n c, .int .i64 (kdR tag x)]) ∧ KidsAt (NdAt w' d) w' (.slice a n c) (kdO tag x) ∧ Tidy (.slice a n c)) ∧ Below w.heap.size w w'
theorem KofE.no {tag t : Int} {b : List Nat} {ks : List Nd} {c : Int} {w w' : World} (h : kdR tag (.mk t b ks) = c) (hc : c ≠ 0) (hb : Below w.heap.size w w') : KofE tag (.mk t b ks) w (.returned (.tuple #[.slice none 0 0, .int .i64 c])) w' :=
  ⟨⟨0, none, 0, 0, by rw [h], by rw [kdO_no (by rw [h]; exact hc)]; exact nil_kids _ _, nil_tidy⟩, hb⟩

set_option maxRecDepth 100000 in
set_option maxHeartbeats 2000000 in
theorem rkids_any (tag : Int) (d : Nat) (c0 c1 c2 : Value) (x : Nd) (w : World) (hn : NdAt w d c0 c1 c2 x) :
    Calls Tryz.prog 42 #[.agg #[c0, c1, c2], .int .i64 tag] w fun e w' => KofE tag x w e w' := by
  cases d with
  | zero => exact hn.elim
  | succ d =>
  obtain ⟨t, b, ks⟩ := x
  obtain ⟨rfl, ht, ⟨a1, p1, rfl, _⟩, _, htk, hkk⟩ := hn
  obtain ⟨a2, p2, rfl⟩ : ∃ a c, c2 = .slice a ks.length c := by obtain ⟨a, c, h, _⟩ := hkk; exact ⟨a, c, h⟩
  have hb0 := keep_alloc w (.cells #[.int .i64 t, .slice a1 b.length p1, .slice a2 ks.length p2] 28)
  obtain ⟨x0, x1, x2⟩ := box_cell w (.int .i64 t) (.slice a1 b.length p1) (.slice a2 ks.length p2) 28
  have hbx := rboxed_any tag (w.alloc (.cells #[.int .i64 t, .slice a1 b.length p1, .slice a2 ks.length p2] 28))
  have HK := hide hkk
  have HT := hide htk
  clear hkk htk
  by_cases h1 : t = tag
  · have hti : (t != tag) = false := by simpa using h1
    have H1 := hide h1
    clear h1
    cases hx : boxedB tag with
    | false =>
      rw [hx] at hbx
      have HR : Hid (kdR tag (.mk t b ks) = 4) := hide (by rw [kdR, if_pos (.inr hx)])
      clear hx
      go_enter Tryz.func42, Tryz.ntmps42
      go_wp2_with fail
      refine hbx.mono ?_
      rintro e w1 ⟨rfl, rfl⟩
      clear hbx
      go_wp2_with fail
      go_ret2
      exact KofE.no HR.out (by decide) hb0
    | true =>
      rw [hx] at hbx
      by_cases hb : b.length = 0
      · have h0 : b = [] := List.eq_nil_of_length_eq_zero hb
        subst h0
        have HR : Hid (kdR tag (.mk t [] ks) = 0) := hide (by rw [kdR, if_neg (by rw [hx, H1.out]; simp), if_neg (by simp)])
        clear hx hb
        go_enter Tryz.func42, Tryz.ntmps42
        go_wp2_with fail
        refine hbx.mono ?_
        rintro e w1 ⟨rfl, rfl⟩
        clear hbx
        go_wp2_with fail
        go_ret2
        exact ⟨⟨d, a2, ks.length, p2, by rw [HR.out]; rfl, by rw [kdO_ok HR.out]; exact kids_below HK.out hb0, HT.out⟩, hb0⟩
      · have HR : Hid (kdR tag (.mk t b ks) = 5) := hide (by rw [kdR, if_neg (by rw [hx, H1.out]; simp), if_pos hb])
        have hbi : (0 : Int) < (b.length : Int) := by omega
        have hbn : 0 < b.length := by omega
        clear hx
        go_enter Tryz.func42, Tryz.ntmps42
        go_wp2_with fail
        refine hbx.mono ?_
        rintro e w1 ⟨rfl, rfl⟩
        clear hbx
        go_wp2_with fail
        go_ret2
        exact KofE.no HR.out (by decide) hb0
  · have hti : (t != tag) = true := by simpa using h1
    have HR : Hid (kdR tag (.mk t b ks) = 4) := hide (by rw [kdR, if_pos (.inl h1)])
    clear h1 hbx
    go_enter Tryz.func42, Tryz.ntmps42
    go_wp2_with fail
    go_ret2
    exact KofE.no HR.out (by decide) hb0

set_option maxRecDepth 100000 in
set_option maxHeartbeats 2000000 in
theorem vkids_any (tag : Int) (d : Nat) (c0 c1 c2 : Value) (x : Nd) (w : World) (hn : NdAt w d c0 c1 c2 x) (hl : szF d x ≤ 100000) :
    Calls Tryz.prog 41 #[.agg #[c0, c1, c2], .int .i64 tag] w fun e w' => KofE tag x w e w' := by
  cases d with
  | zero => exact hn.elim
  | succ d =>
  obtain ⟨t, b, ks⟩ := x
  have hn' := hn
  obtain ⟨rfl, ht, ⟨a1, p1, rfl, _⟩, _, htk, hkk⟩ := hn'
  obtain ⟨a2, p2, rfl⟩ : ∃ a c, c2 = .slice a ks.length c := by obtain ⟨a, c, h, _⟩ := hkk; exact ⟨a, c, h⟩
  have hs : (ks.map (szF d)).sum ≤ 100000 := by rw [szF] at hl; omega
  have hb0 := keep_alloc w (.cells #[.int .i64 t, .slice a1 b.length p1, .slice a2 ks.length p2] 28)
  have hcc := box_cell w (.int .i64 t) (.slice a1 b.length p1) (.slice a2 ks.length p2) 28
  have hbx := boxed_any tag (w.alloc (.cells #[.int .i64 t, .slice a1 b.length p1, .slice a2 ks.length p2] 28))
  have hask := ask_kids tag t (d + 1) a1 a2 b.length p1 ks.length p2 w.heap.size b ks (w.alloc (.cells #[.int .i64 t, .slice a1 b.length p1, .slice a2 ks.length p2] 28)) (fun v er w' => er = 0 ∧ ∃ d, KidsAt (NdAt w' d) w' v ks ∧ Tidy v) (NdAt.below hb0 _ _ _ _ _ hn) (by
    intro ht hm w1 hb1
    exact kids1_any w.heap.size d a2 ks.length p2 ks w1 (hcc.below hb1).2.2 (kids_below hkk (keep_trans hb0 hb1)) hs)
  obtain ⟨x0, x1, x2⟩ := hcc
  clear hkk htk hn
  cases hx : boxedB tag with
  | false =>
    rw [hx] at hbx
    have HR : Hid (kdR tag (.mk t b ks) = 4) := hide (by rw [kdR, if_pos (.inr hx)])
    clear hx hask
    go_enter Tryz.func41, Tryz.ntmps41
    go_wp2_with fail
    refine hbx.mono ?_
    rintro e w1 ⟨rfl, rfl⟩
    clear hbx
    go_wp2_with fail
    go_ret2
    exact KofE.no HR.out (by decide) hb0
  | true =>
    rw [hx] at hbx
    have HX := hide hx
    clear hx
    go_enter Tryz.func41, Tryz.ntmps41
    go_wp2_with fail
    refine hbx.mono ?_
    rintro e w1 ⟨rfl, rfl⟩
    clear hbx
    go_wp2_with fail
    refine hask.mono ?_
    rintro e w1 ⟨⟨h1, rfl⟩ | ⟨h1, hm, rfl⟩ | ⟨h1, hm, v, er, rfl, hR⟩, hb1⟩
    · have HR : Hid (kdR tag (.mk t b ks) = 4) := hide (by rw [kdR, if_pos (.inl h1)])
      clear hask h1
      go_wp2_with fail
      go_ret2
      exact KofE.no HR.out (by decide) (keep_trans hb0 hb1)
    · have HR : Hid (kdR tag (.mk t b ks) = 5) := hide (by
        have hx := HX.out
        rw [← h1] at hx
        rw [mix_boxed hx] at hm
        have hm' : 0 < b.length := by simpa using hm
        rw [kdR, if_neg (by rw [HX.out, h1]; simp), if_pos (by omega)])
      clear hask h1 hm
      go_wp2_with fail
      go_ret2
      exact KofE.no HR.out (by decide) (keep_trans hb0 hb1)
    · have HR : Hid (kdR tag (.mk t b ks) = 0) := hide (by
        have hx := HX.out
        rw [← h1] at hx
        rw [mix_boxed hx] at hm
        have hm' : b.length = 0 := by simpa using hm
        rw [kdR, if_neg (by rw [HX.out, h1]; simp), if_neg (by omega)])
      have HH := hide hR
      clear hask h1 hm hR
      go_wp2_with fail
      go_ret2
      obtain ⟨rfl, d1, hk1, ht1⟩ := HH.out
      obtain ⟨a, c, he⟩ : ∃ a c, v = .slice a ks.length c := by obtain ⟨a, c, h, _⟩ := hk1; exact ⟨a, c, h⟩
      subst he
      exact ⟨⟨d1, a, ks.length, c, by rw [HR.out]; rfl, by rw [kdO_ok HR.out]; exact hk1, ht1⟩, keep_trans hb0 hb1⟩
end Go.Proofs.YtlddpjcacnahmaaGreatDoor

/- A heap of texts in memory (a pile): its parts, what turns it, and its methods. -/
namespace Go.Proofs.YtlddpjcacnahmaaGreatDoor
open Go.RowKit
set_option linter.unusedVariables false

/-- but for the blocks g and P, the blocks of w are as they were -/
structure Alt (g P : Nat) (w w' : World) : Prop where
  os : w'.os = w.os
  tape : w'.tape = w.tape
  output : w'.output = w.output
  size : w.heap.size ≤ w'.heap.size
  block : ∀ k, k < w.heap.size → k ≠ g → k ≠ P → w'.heap[k]? = w.heap[k]?
theorem Alt.refl (g P : Nat) (w : World) : Alt g P w w := ⟨rfl, rfl, rfl, Nat.le_refl _, fun _ _ _ _ => rfl⟩
theorem Alt.trans {g P : Nat} {a b c : World} (h : Alt g P a b) (k : Alt g P b c) : Alt g P a c :=
  ⟨k.os.trans h.os, k.tape.trans h.tape, k.output.trans h.output, Nat.le_trans h.size k.size, fun i hi h1 h2 => (k.block i (Nat.lt_of_lt_of_le hi h.size) h1 h2).trans (h.block i hi h1 h2)⟩
theorem Alt.below {g P B : Nat} {w w' : World} (h : Alt g P w w') (hg : B ≤ g) (hP : B ≤ P) (hB : B ≤ w.heap.size) : Below B w w' :=
  ⟨h.os, h.tape, h.output, h.size, fun k hk => h.block k (by omega) (by omega) (by omega)⟩
theorem Alt.of_below {g P : Nat} {w w' : World} (h : Below w.heap.size w w') : Alt g P w w' := ⟨h.os, h.tape, h.output, h.size, fun k hk _ _ => h.block k hk⟩
theorem Alt.setCell {g P : Nat} {a w : World} (h : Alt g P a w) {p : Addr} (hp : p.block = g ∨ p.block = P) (u : Value) : Alt g P a (w.setCell p u) :=
  h.trans ⟨rfl, rfl, rfl, by simp [World.setCell], fun k hk h1 h2 => Below.heap_setCell _ _ _ _ (by rcases hp with e | e <;> omega)⟩
theorem Alt.drew {g P : Nat} {a w : World} (h : Alt g P a w) : Alt g P a w.drew := ⟨h.os, h.tape, h.output, h.size, h.block⟩

theorem Row.other {k : IntKind} {m : Nat} {w w' : World} {u : Value} {l : List Nat} (h : Row k m w u l) (hb : ∀ b, u.ownBlock = some b → b < w.heap.size → w'.heap[b]? = w.heap[b]?) : Row k m w' u l := by
  obtain ⟨a, cap, rfl, h1, h2, h3, h4⟩ := h
  refine ⟨a, cap, rfl, h1, h2, fun hl => ?_, h4⟩
  obtain ⟨b, off, rfl, hc⟩ := h3 hl
  refine ⟨b, off, rfl, fun i hi => ?_⟩
  have c := hc i hi
  have hlt := World.block_lt_of_cell? w _ c
  rw [World.cell?_of_block (w := w) (hb b rfl hlt)]
  exact c

/-- the cells of a block are texts of the world w0 -/
def Held (w0 : World) (cur : Array Value) (l : List (List Nat)) : Prop := ∀ i, i < l.length → ∃ u, cur[i]? = some u ∧ Row .u8 256 w0 u (tx l i) ∧ Tidy u
theorem Held.size {w0 : World} {cur : Array Value} {l : List (List Nat)} (h : Held w0 cur l) (i : Nat) (hi : i < l.length) : i < cur.size := by
  obtain ⟨u, hu, _⟩ := h i hi
  rcases Nat.lt_or_ge i cur.size with hlt | hge
  · exact hlt
  · rw [Array.getElem?_eq_none hge] at hu; cases hu
theorem Held.swp {w0 : World} {cur : Array Value} {l : List (List Nat)} (h : Held w0 cur l) {i j : Nat} (hi : i < l.length) (hj : j < l.length) {ui uj : Value} (ei : cur[i]? = some ui) (ej : cur[j]? = some uj) :
    Held w0 ((cur.setIfInBounds i uj).setIfInBounds j ui) (swp l i j) := by
  intro k hk
  rw [swp_len] at hk
  have si := h.size i hi
  have sj := h.size j hj
  have sk := h.size k hk
  obtain ⟨x, hx, rx, tx1⟩ := h i hi
  obtain ⟨y, hy, ry, ty⟩ := h j hj
  obtain ⟨z, hz, rz, tz⟩ := h k hk
  rw [ei] at hx; cases hx
  rw [ej] at hy; cases hy
  rw [swp_tx hi hj]
  by_cases hkj : k = j
  · subst hkj
    rw [if_pos rfl]
    exact ⟨ui, by simp [sk], rx, tx1⟩
  · rw [if_neg hkj]
    by_cases hki : k = i
    · subst hki
      rw [if_pos rfl]
      exact ⟨uj, by simp [sk, Ne.symm hkj], ry, ty⟩
    · rw [if_neg hki]
      exact ⟨z, by simp [Ne.symm hkj, Ne.symm hki, hz], rz, tz⟩
theorem Held.take {w0 : World} {cur : Array Value} {l : List (List Nat)} (h : Held w0 cur l) (n : Nat) : Held w0 cur (l.take n) := by
  intro i hi
  have hi2 : i < n ∧ i < l.length := by rw [List.length_take] at hi; omega
  obtain ⟨u, hu, r, t⟩ := h i hi2.2
  refine ⟨u, hu, ?_, t⟩
  have e : tx (l.take n) i = tx l i := by unfold tx; rw [List.getElem?_take, if_pos hi2.1]
  rw [e]; exact r

theorem cell_at {w : World} {g i : Nat} {cur : Array Value} {t : TypeId} (h : w.heap[g]? = some (.cells cur t)) : w.cell? ⟨g, i, none⟩ = cur[i]? := by simp [World.cell?, h]
end Go.Proofs.YtlddpjcacnahmaaGreatDoor

/- Members of a set in memory: a text and a value each; which is ahead. -/
namespace Go.Proofs.YtlddpjcacnahmaaGreatDoor
open Go.RowKit Go.Deep
set_option linter.unusedVariables false
set_option linter.unusedSimpArgs false

/-- a member's four cells -/
structure Mb where
  t : Value
  c0 : Value
  c1 : Value
  c2 : Value
/-- the place of a member -/
abbrev Pm : Type := Mb × (List Nat × Nd)
def pm0 : Pm := (⟨.int .i64 0, .int .i64 0, .int .i64 0, .int .i64 0⟩, ([], .mk 0 [] []))
def px (ps : List Pm) (i : Nat) : Pm := ps[i]?.getD pm0
theorem px_at {ps : List Pm} {i : Nat} (h : i < ps.length) : px ps i = ps[i] := by unfold px; rw [List.getElem?_eq_getElem h]; rfl
theorem px_mem {ps : List Pm} {i : Nat} (h : i < ps.length) : px ps i ∈ ps := by rw [px_at h]; exact List.getElem_mem h
/-- the texts of members -/
def keys (ps : List Pm) : List (List Nat) := ps.map (fun p => p.2.1)
theorem keys_len (ps : List Pm) : (keys ps).length = ps.length := by simp [keys]
theorem tx_keys {ps : List Pm} {i : Nat} (h : i < ps.length) : tx (keys ps) i = (px ps i).2.1 := by
  rw [tx_at (by rw [keys_len]; exact h), px_at h]; simp [keys]
/-- four cells are a member: its text and its value lie in old blocks, but for one -/
def MbOk (g : Nat) (w0 : World) (d : Nat) (p : Pm) : Prop :=
  Row .u8 256 w0 p.1.t p.2.1 ∧ Tidy p.1.t ∧ ValIn (fun q => q ≠ g) p.1.t ∧ NdIn (fun q => q ≠ g) w0 d p.1.c0 p.1.c1 p.1.c2 p.2.2
/-- the block g holds the members' cells -/
def Mrow (w : World) (g : Nat) (ps : List Pm) : Prop :=
  ∃ cur, w.heap[g]? = some (.cells cur 108) ∧ ∀ i, i < ps.length → cur[i * 4]? = some (px ps i).1.t ∧ cur[i * 4 + 1]? = some (px ps i).1.c0 ∧ cur[i * 4 + 2]? = some (px ps i).1.c1 ∧ cur[i * 4 + 3]? = some (px ps i).1.c2
theorem MbOk.forms {g : Nat} {w0 : World} {d : Nat} {p : Pm} (h : MbOk g w0 d p) : ∃ ta tn tc t a1 n1 p1 a2 n2 p2, p.1.t = .slice ta tn tc ∧ p.1.c0 = .int .i64 t ∧ p.1.c1 = .slice a1 n1 p1 ∧ p.1.c2 = .slice a2 n2 p2 := by
  obtain ⟨⟨ta, tc, ht, _⟩, _, _, hn⟩ := h
  obtain ⟨t, a1, n1, p1, a2, n2, p2, e0, e1, e2⟩ := hn.forms
  exact ⟨_, _, _, t, a1, n1, p1, a2, n2, p2, ht, e0, e1, e2⟩
theorem Mrow.cell {w : World} {g : Nat} {ps : List Pm} (h : Mrow w g ps) {i : Nat} (hi : i < ps.length) :
    w.cell? ⟨g, i * 4, none⟩ = some (px ps i).1.t ∧ w.cell? ⟨g, i * 4 + 1, none⟩ = some (px ps i).1.c0 ∧ w.cell? ⟨g, i * 4 + 2, none⟩ = some (px ps i).1.c1 ∧ w.cell? ⟨g, i * 4 + 3, none⟩ = some (px ps i).1.c2 := by
  obtain ⟨cur, hg, hc⟩ := h
  obtain ⟨h0, h1, h2, h3⟩ := hc i hi
  exact ⟨by rw [cell_at' hg]; exact h0, by rw [cell_at' hg]; exact h1, by rw [cell_at' hg]; exact h2, by rw [cell_at' hg]; exact h3⟩
theorem Mrow.frozen {w : World} {g : Nat} {ps : List Pm} (h : Mrow w g ps) (o : Nat) : w.frozen? ⟨g, o, none⟩ = false := by
  obtain ⟨cur, hg, _⟩ := h
  exact frozen_of_row w g o cur _ hg
theorem Mrow.other {w w' : World} {g : Nat} {ps : List Pm} (h : Mrow w g ps) (hb : w'.heap[g]? = w.heap[g]?) : Mrow w' g ps := by
  obtain ⟨cur, hg, hc⟩ := h
  exact ⟨cur, hb.trans hg, hc⟩
theorem Mrow.lt {w : World} {g : Nat} {ps : List Pm} (h : Mrow w g ps) : g < w.heap.size := by
  obtain ⟨cur, hg, _⟩ := h
  exact (Array.getElem?_eq_some_iff.1 hg).1
theorem Mrow.below {w w' : World} {g : Nat} {ps : List Pm} (h : Mrow w g ps) (hb : Below w.heap.size w w') : Mrow w' g ps := h.other (hb.block g h.lt)
/-- a member is stored at a place -/
def put4 (w : World) (g o : Nat) (m : Mb) : World := (((w.setCell ⟨g, o, none⟩ m.t).setCell ⟨g, o + 1, none⟩ m.c0).setCell ⟨g, o + 2, none⟩ m.c1).setCell ⟨g, o + 3, none⟩ m.c2
theorem px_set {ps : List Pm} {i k : Nat} {x : Pm} (h : i < ps.length) : px (ps.set i x) k = if k = i then x else px ps k := by
  unfold px
  by_cases hk : k = i
  · subst hk; rw [if_pos rfl, List.getElem?_set_self h]; rfl
  · rw [if_neg hk, List.getElem?_set_ne (fun e => hk e.symm)]
theorem Mrow.put {w : World} {g : Nat} {ps : List Pm} (h : Mrow w g ps) {j : Nat} (hj : j < ps.length) (x : Pm) : Mrow (put4 w g (j * 4) x.1) g (ps.set j x) := by
  obtain ⟨cur, hg, hc⟩ := h
  refine ⟨_, heap_setCell_same _ _ _ _ _ _ (heap_setCell_same _ _ _ _ _ _ (heap_setCell_same _ _ _ _ _ _ (heap_setCell_same _ _ _ _ _ _ hg))), fun i hi => ?_⟩
  rw [List.length_set] at hi
  obtain ⟨h0, h1, h2, h3⟩ := hc i hi
  have s0 := (Array.getElem?_eq_some_iff.1 (hc j hj).1).1
  have s1 := (Array.getElem?_eq_some_iff.1 (hc j hj).2.1).1
  have s2 := (Array.getElem?_eq_some_iff.1 (hc j hj).2.2.1).1
  have s3 := (Array.getElem?_eq_some_iff.1 (hc j hj).2.2.2).1
  rw [px_set hj]
  simp only [Array.getElem?_setIfInBounds, Array.size_setIfInBounds]
  by_cases hij : i = j
  · subst hij
    rw [if_pos rfl]
    refine ⟨?_, ?_, ?_, ?_⟩ <;> (repeat' split) <;> first | rfl | (exfalso; omega)
  · rw [if_neg hij]
    refine ⟨?_, ?_, ?_, ?_⟩
    · rw [if_neg (by omega), if_neg (by omega), if_neg (by omega), if_neg (by omega)]; exact h0
    · rw [if_neg (by omega), if_neg (by omega), if_neg (by omega), if_neg (by omega)]; exact h1
    · rw [if_neg (by omega), if_neg (by omega), if_neg (by omega), if_neg (by omega)]; exact h2
    · rw [if_neg (by omega), if_neg (by omega), if_neg (by omega), if_neg (by omega)]; exact h3
theorem Alt.put {g : Nat} {a w : World} (h : Alt g g a w) (o : Nat) (m : Mb) : Alt g g a (put4 w g o m) :=
  (((h.setCell (.inl rfl) _).setCell (.inl rfl) _).setCell (.inl rfl) _).setCell (.inl rfl) _
/-- two members change their places -/
def swapP (ps : List Pm) (i j : Nat) : List Pm := (ps.set i (px ps j)).set j (px ps i)
theorem swapP_len (ps : List Pm) (i j : Nat) : (swapP ps i j).length = ps.length := by simp [swapP]
theorem swapP_keys {ps : List Pm} {i j : Nat} (hi : i < ps.length) (hj : j < ps.length) : keys (swapP ps i j) = swp (keys ps) i j := by
  unfold swapP swp
  rw [tx_keys hi, tx_keys hj]
  simp [keys, List.map_set]
theorem set_perm {ps : List Pm} {i j : Nat} (hi : i < ps.length) (hj : j < ps.length) : (swapP ps i j).Perm ps := by
  unfold swapP
  rw [px_at hi, px_at hj]
  exact List.set_set_perm hi hj
theorem Row.alt {g : Nat} {w0 w : World} {v : Value} {l : List Nat} (h : Row .u8 256 w0 v l) (hv : ValIn (fun q => q ≠ g) v) (ha : Alt g g w0 w) : Row .u8 256 w v l :=
  h.otherIn hv (fun b hb hl => ha.block b hl hb hb)
theorem NdIn.alt {g : Nat} {w0 w : World} {d : Nat} {c0 c1 c2 : Value} {x : Nd} (h : NdIn (fun q => q ≠ g) w0 d c0 c1 c2 x) (ha : Alt g g w0 w) : NdIn (fun q => q ≠ g) w d c0 c1 c2 x :=
  h.other (fun b hb hl => ha.block b hl hb hb) _ _ _ _ _

set_option maxRecDepth 100000 in
set_option maxHeartbeats 2000000 in
theorem mcompare_any (ta ua : Option Addr) (tn tc un uc : Nat) (c0 c1 c2 e0 e1 e2 : Value) (f0 : ∃ t, c0 = .int .i64 t) (f1 : ∃ a n c, c1 = .slice a n c) (f2 : ∃ a n c, c2 = .slice a n c) (k0 : ∃ t, e0 = .int .i64 t) (k1 : ∃ a n c, e1 = .slice a n c) (k2 : ∃ a n c, e2 = .slice a n c) (l m : List Nat) (w : World) (ha : Row .u8 256 w (.slice ta tn tc) l) (hb : Row .u8 256 w (.slice ua un uc) m) :
    Calls Tryz.prog 76 #[.agg #[.slice ta tn tc, c0, c1, c2], .agg #[.slice ua un uc, e0, e1, e2]] w fun e w' => (∃ z, e = .returned (.int .i64 z) ∧ decide (z < 0) = lessL l m) ∧ Below w.heap.size w w' := by
  obtain ⟨t1, rfl⟩ := f0
  obtain ⟨a1, n1, p1, rfl⟩ := f1
  obtain ⟨a2, n2, p2, rfl⟩ := f2
  obtain ⟨t2, rfl⟩ := k0
  obtain ⟨b1, m1, q1, rfl⟩ := k1
  obtain ⟨b2, m2, q2, rfl⟩ := k2
  have hbw : Below w.heap.size w ((w.alloc (.cells #[.slice ta tn tc, .int .i64 t1, .slice a1 n1 p1, .slice a2 n2 p2] 108)).alloc (.cells #[.slice ua un uc, .int .i64 t2, .slice b1 m1 q1, .slice b2 m2 q2] 108)) := keep_trans (keep_alloc w _) (keep_alloc _ _)
  have hr := cmp_run (ha.below hbw) (hb.below hbw)
  have hd := cmp_less l m ha.under hb.under
  generalize Lib.compareBytes (bts l) (bts m) = z at *
  have HD := hide hd
  clear hd
  go_enter Tryz.func76, Tryz.ntmps76
  go_wp2
  go_ret
  exact ⟨⟨z, rfl, HD.out⟩, hbw⟩
end Go.Proofs.YtlddpjcacnahmaaGreatDoor

/- Sets of values: they hang on their bytes alone. Plain facts ahead of stage 6. -/
namespace Go.Proofs.YtlddpjcacnahmaaGreatDoor
set_option linter.unusedVariables false
set_option linter.unusedSimpArgs false

theorem bytes_one {FB : Int → List Nat → Bool} {x y : Nd} {b : List Nat} (h : bytesD FB x = some b) (h' : bytesD FB y = some b) : x = y :=
  Res.ok.inj ((parse_bytes h).symm.trans (parse_bytes h'))
/-- values of the same bytes, one by one, are the same -/
theorem all_one {FB : Int → List Nat → Bool} : ∀ (p q : List Nd) (ts : List (List Nat)), allS (bytesD FB) p = some ts → allS (bytesD FB) q = some ts → p = q
  | [], [], _, _, _ => rfl
  | [], y :: q, ts, h, h' => by
    rw [allS] at h
    cases h
    rw [allS] at h'
    split at h'
    · cases h'
    · split at h' <;> cases h'
  | x :: p, [], ts, h, h' => by
    rw [allS] at h'
    cases h'
    rw [allS] at h
    split at h
    · cases h
    · split at h <;> cases h
  | x :: p, y :: q, ts, h, h' => by
    rw [allS] at h h'
    cases hx : bytesD FB x with
    | none => rw [hx] at h; cases h
    | some b =>
      cases hy : bytesD FB y with
      | none => rw [hy] at h'; cases h'
      | some c =>
        rw [hx] at h
        rw [hy] at h'
        cases hp : allS (bytesD FB) p with
        | none => rw [hp] at h; cases h
        | some bs =>
          cases hq : allS (bytesD FB) q with
          | none => rw [hq] at h'; cases h'
          | some cs =>
            rw [hp] at h
            rw [hq] at h'
            cases h
            simp only [Option.some.injEq, List.cons.injEq] at h'
            obtain ⟨rfl, rfl⟩ := h'
            rw [bytes_one hx hy, all_one p q _ hp hq]
end Go.Proofs.YtlddpjcacnahmaaGreatDoor
