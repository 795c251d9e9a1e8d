/- Values in memory that lie in some blocks alone; rows of nodes of the call's own. -/
import Derived.Test.YtlddpjcacnahmaaGreatDoorPCmp
import Derived.Test.YtlddpjcacnahmaaGreatDoorApp2
import Derived.Deep.AppendLies
namespace Go.Proofs.YtlddpjcacnahmaaGreatDoor
open Go.RowKit Go.Deep
set_option linter.unusedVariables false

/-- a slice that has elements lies in such a block -/
def ValIn (S : Nat → Prop) (v : Value) : Prop := ∀ b, 0 < lenV v → v.ownBlock = some b → S b
/-- three cells are a node, of at most so many layers, and all of it lies in such blocks -/
def NdIn (S : Nat → Prop) (w : World) : Nat → Value → Value → Value → Nd → Prop
  | 0, _, _, _, _ => False
  | d + 1, ct, cb, ck, .mk t b ks => ct = .int .i64 t ∧ I64 t ∧ Row .u8 256 w cb b ∧ Tidy cb ∧ Tidy ck ∧ ValIn S cb ∧ ValIn S ck ∧ KidsAt (NdIn S w d) w ck ks
theorem NdIn.at {S : Nat → Prop} {w : World} : ∀ (d : Nat) (c0 c1 c2 : Value) (x : Nd), NdIn S w d c0 c1 c2 x → NdAt w d c0 c1 c2 x := by
  intro d
  induction d with
  | zero => intro c0 c1 c2 x h; exact h.elim
  | succ d ih =>
    rintro c0 c1 c2 ⟨t, b, ks⟩ ⟨h1, h2, h3, h4, h5, _, _, a, cap, h6, h7, h8, h9⟩
    refine ⟨h1, h2, h3, h4, h5, a, cap, h6, h7, h8, fun hl => ?_⟩
    obtain ⟨bl, off, e, hc⟩ := h9 hl
    refine ⟨bl, off, e, fun i hi => ?_⟩
    obtain ⟨k0, k1, k2, k3, k4⟩ := hc i hi
    exact ⟨k0, k1, k2, k3, ih _ _ _ _ k4⟩
theorem Cell3.other {w w' : World} {b o : Nat} {c0 c1 c2 : Value} (h : Cell3 w b o c0 c1 c2) (hb : w'.heap[b]? = w.heap[b]?) : Cell3 w' b o c0 c1 c2 := by
  obtain ⟨h0, h1, h2⟩ := h
  refine ⟨?_, ?_, ?_⟩
  · rw [World.cell?_of_block (w := w) hb]; exact h0
  · rw [World.cell?_of_block (w := w) hb]; exact h1
  · rw [World.cell?_of_block (w := w) hb]; exact h2
theorem Row.otherIn {S : Nat → Prop} {w w' : World} {u : Value} {l : List Nat} (h : Row .u8 256 w u l) (hs : ValIn S u) (hb : ∀ b, S b → b < w.heap.size → w'.heap[b]? = w.heap[b]?) : Row .u8 256 w' u l := by
  obtain ⟨a, cap, rfl, h1, h2, h3, h4⟩ := h
  refine ⟨a, cap, rfl, h1, h2, fun hl => ?_, h4⟩
  obtain ⟨b, off, rfl, hc⟩ := h3 hl
  refine ⟨b, off, rfl, fun i hi => ?_⟩
  have c := hc i hi
  rw [World.cell?_of_block (w := w) (hb b (hs b hl rfl) (World.block_lt_of_cell? w _ c))]
  exact c
theorem NdIn.other {S : Nat → Prop} {w w' : World} (hb : ∀ b, S b → b < w.heap.size → w'.heap[b]? = w.heap[b]?) : ∀ (d : Nat) (c0 c1 c2 : Value) (x : Nd), NdIn S w d c0 c1 c2 x → NdIn S w' d c0 c1 c2 x := by
  intro d
  induction d with
  | zero => intro c0 c1 c2 x h; exact h.elim
  | succ d ih =>
    rintro c0 c1 c2 ⟨t, b, ks⟩ ⟨h1, h2, h3, h4, h5, s1, s2, a, cap, rfl, h7, h8, h9⟩
    refine ⟨h1, h2, h3.otherIn s1 hb, h4, h5, s1, s2, a, cap, rfl, h7, h8, fun hl => ?_⟩
    obtain ⟨bl, off, rfl, hc⟩ := h9 hl
    refine ⟨bl, off, rfl, fun i hi => ?_⟩
    obtain ⟨k0, k1, k2, k3, k4⟩ := hc i hi
    exact ⟨k0, k1, k2, k3.other (hb bl (s2 bl hl rfl) (World.block_lt_of_cell? w _ k3.1)), ih _ _ _ _ k4⟩
theorem NdIn.mono {S T : Nat → Prop} {w : World} (hST : ∀ b, S b → b < w.heap.size → T b) : ∀ (d : Nat) (c0 c1 c2 : Value) (x : Nd), NdIn S w d c0 c1 c2 x → NdIn T w d c0 c1 c2 x := by
  intro d
  induction d with
  | zero => intro c0 c1 c2 x h; exact h.elim
  | succ d ih =>
    rintro c0 c1 c2 ⟨t, b, ks⟩ ⟨h1, h2, h3, h4, h5, s1, s2, a, cap, rfl, h7, h8, h9⟩
    have h3' := h3
    obtain ⟨ba, bc, rfl, _, _, hcell, _⟩ := h3'
    refine ⟨h1, h2, h3, h4, h5, fun bb hp he => ?_, fun bb hp he => ?_, a, cap, rfl, h7, h8, fun hl => ?_⟩
    · obtain ⟨b0, o0, rfl, hc⟩ := hcell hp
      have c := hc 0 hp
      have e : b0 = bb := by simpa [Value.ownBlock] using he
      subst e
      exact hST _ (s1 _ hp rfl) (World.block_lt_of_cell? w _ c)
    · obtain ⟨b0, o0, rfl, hc⟩ := h9 hp
      obtain ⟨k0, k1, k2, k3, _⟩ := hc 0 hp
      have e : b0 = bb := by simpa [Value.ownBlock] using he
      subst e
      exact hST _ (s2 _ hp rfl) (World.block_lt_of_cell? w _ k3.1)
    · obtain ⟨bl, off, rfl, hc⟩ := h9 hl
      refine ⟨bl, off, rfl, fun i hi => ?_⟩
      obtain ⟨k0, k1, k2, k3, k4⟩ := hc i hi
      exact ⟨k0, k1, k2, k3, ih _ _ _ _ k4⟩
theorem NdIn.more {S : Nat → Prop} {w : World} : ∀ (d : Nat) (c0 c1 c2 : Value) (x : Nd), NdIn S w d c0 c1 c2 x → NdIn S w (d + 1) c0 c1 c2 x := by
  intro d
  induction d with
  | zero => intro c0 c1 c2 x h; exact h.elim
  | succ d ih =>
    rintro c0 c1 c2 ⟨t, b, ks⟩ ⟨h1, h2, h3, h4, h5, s1, s2, a, cap, h6, h7, h8, h9⟩
    refine ⟨h1, h2, h3, h4, h5, s1, s2, a, cap, h6, h7, h8, fun hl => ?_⟩
    obtain ⟨bl, off, e, hc⟩ := h9 hl
    refine ⟨bl, off, e, fun i hi => ?_⟩
    obtain ⟨k0, k1, k2, k3, k4⟩ := hc i hi
    exact ⟨k0, k1, k2, k3, ih _ _ _ _ k4⟩
/-- a node's three cells in a list of cells -/
def Trip (S : Nat → Prop) (w : World) (d : Nat) (cs : List Value) (ks : List Nd) : Prop :=
  cs.length = ks.length * 3 ∧ ∀ i, i < ks.length → ∃ c0 c1 c2, cs[i * 3]? = some c0 ∧ cs[i * 3 + 1]? = some c1 ∧ cs[i * 3 + 2]? = some c2 ∧ NdIn S w d c0 c1 c2 (kx ks i)
theorem Trip.nil (S : Nat → Prop) (w : World) (d : Nat) : Trip S w d [] [] := ⟨rfl, fun i hi => by simp at hi⟩
theorem Trip.snoc {S : Nat → Prop} {w : World} {d : Nat} {cs : List Value} {ks : List Nd} {c0 c1 c2 : Value} {x : Nd} (h : Trip S w d cs ks) (hx : NdIn S w d c0 c1 c2 x) : Trip S w d (cs ++ [c0, c1, c2]) (ks ++ [x]) := by
  obtain ⟨h1, h2⟩ := h
  refine ⟨by simp [h1]; omega, fun i hi => ?_⟩
  rw [List.length_append, List.length_singleton] at hi
  by_cases hl : i < ks.length
  · obtain ⟨k0, k1, k2, e0, e1, e2, hn⟩ := h2 i hl
    refine ⟨k0, k1, k2, by rw [List.getElem?_append_left (by omega)]; exact e0, by rw [List.getElem?_append_left (by omega)]; exact e1, by rw [List.getElem?_append_left (by omega)]; exact e2, ?_⟩
    have e : kx (ks ++ [x]) i = kx ks i := by unfold kx; rw [List.getElem?_append_left hl]
    rw [e]; exact hn
  · have hi0 : i = ks.length := by omega
    subst hi0
    refine ⟨c0, c1, c2, by rw [List.getElem?_append_right (by omega), h1]; simp, by rw [List.getElem?_append_right (by omega), h1, show ks.length * 3 + 1 - ks.length * 3 = 1 by omega]; rfl, by rw [List.getElem?_append_right (by omega), h1, show ks.length * 3 + 2 - ks.length * 3 = 2 by omega]; rfl, ?_⟩
    have e : kx (ks ++ [x]) ks.length = x := by unfold kx; simp
    rw [e]; exact hx
theorem Trip.map {S T : Nat → Prop} {w w' : World} {d d' : Nat} {cs : List Value} {ks : List Nd} (h : Trip S w d cs ks) (hm : ∀ c0 c1 c2 x, NdIn S w d c0 c1 c2 x → NdIn T w' d' c0 c1 c2 x) : Trip T w' d' cs ks :=
  ⟨h.1, fun i hi => by obtain ⟨k0, k1, k2, e0, e1, e2, hn⟩ := h.2 i hi; exact ⟨k0, k1, k2, e0, e1, e2, hm _ _ _ _ hn⟩⟩
/-- a row of nodes of the call's own is a slice of nodes -/
theorem Trip.kids {S : Nat → Prop} {w : World} {d B : Nat} {v : Value} {cs : List Value} {ks : List Nd} (h : Trip S w d cs ks) (ho : w.ownsRow B 28 3 v ks.length cs) : KidsAt (NdIn S w d) w v ks := by
  obtain ⟨h1, ⟨rfl, h2⟩ | ⟨g, cap, cur, rfl, h3, h4, h5, h6, h7, h8⟩⟩ := ho
  · exact ⟨none, 0, by rw [h2], by omega, Nat.zero_le _, fun hl => by omega⟩
  · refine ⟨_, cap, rfl, h5, h6, fun hl => ⟨g, 0, rfl, fun i hi => ?_⟩⟩
    obtain ⟨k0, k1, k2, e0, e1, e2, hn⟩ := h.2 i hi
    have key : ∀ j u, j < ks.length * 3 → cs[j]? = some u → w.cell? ⟨g, j, none⟩ = some u := by
      intro j u hj hu
      have : w.cell? ⟨g, j, none⟩ = cur[j]? := by simp [World.cell?, h4]
      rw [this, ← hu, ← h8, List.getElem?_take, if_pos hj]
      simp
    refine ⟨k0, k1, k2, ⟨?_, ?_, ?_⟩, hn⟩
    · rw [Nat.zero_add]; exact key _ _ (by omega) e0
    · rw [Nat.zero_add]; exact key _ _ (by omega) e1
    · rw [Nat.zero_add]; exact key _ _ (by omega) e2
end Go.Proofs.YtlddpjcacnahmaaGreatDoor

/- The parts that were read so far, in rows of the call's own. -/
namespace Go.Proofs.YtlddpjcacnahmaaGreatDoor
open Go.RowKit Go.Deep
set_option linter.unusedVariables false

/-- what was read first, ahead of what is read next -/
def preR {α : Type} (xs : List α) : Res (List α) → Res (List α)
  | .err e => .err e
  | .ok l => .ok (xs ++ l)
theorem preR_nil {α : Type} (r : Res (List α)) : preR [] r = r := by cases r <;> rfl
theorem preR_pre {α : Type} (xs ys : List α) (r : Res (List α)) : preR xs (preR ys r) = preR (xs ++ ys) r := by
  cases r with
  | err e => rfl
  | ok l => show Res.ok (xs ++ (ys ++ l)) = .ok (xs ++ ys ++ l); rw [List.append_assoc]
theorem rdk_nil (g : List Nat → Res (Nd × Nat)) (f : Nat) : rdk g f [] = .ok [] := by cases f <;> rfl
theorem rdk_err {g : List Nat → Res (Nd × Nat)} {f e : Nat} {J : List Nat} (h0 : 0 < J.length) (hf : J.length ≤ f) (hg : g J = .err e) : rdk g f J = .err e := by
  cases J with
  | nil => simp at h0
  | cons j J => cases f with
    | zero => simp at hf
    | succ f => rw [rdk, hg]
theorem rdk_ok {g : List Nat → Res (Nd × Nat)} {f m : Nat} {x : Nd} {J : List Nat} (h0 : 0 < J.length) (hf : J.length ≤ f) (hg : g J = .ok (x, m)) (hm : 0 < m) : ∃ f', (J.drop m).length ≤ f' ∧ rdk g f J = preR [(x, J.take m)] (rdk g f' (J.drop m)) := by
  cases J with
  | nil => simp at h0
  | cons j J => cases f with
    | zero => simp at hf
    | succ f =>
      refine ⟨f, by rw [List.length_drop]; simp at hf ⊢; omega, ?_⟩
      rw [rdk, hg]
      dsimp only
      cases rdk g f ((j :: J).drop m) with
      | err e => rfl
      | ok l => rfl

theorem NdIn.le {S : Nat → Prop} {w : World} {d d' : Nat} (h : d ≤ d') {c0 c1 c2 : Value} {x : Nd} (hx : NdIn S w d c0 c1 c2 x) : NdIn S w d' c0 c1 c2 x := by
  induction h with
  | refl => exact hx
  | step _ ih => exact NdIn.more _ _ _ _ _ ih
theorem NdIn.turn {S T : Nat → Prop} {w w' : World} {d : Nat} {c0 c1 c2 : Value} {x : Nd} (h : NdIn S w d c0 c1 c2 x) (hb : ∀ b, S b → b < w.heap.size → w'.heap[b]? = w.heap[b]? ∧ T b) : NdIn T w' d c0 c1 c2 x := by
  have h1 : NdIn (fun b => S b ∧ b < w.heap.size) w d c0 c1 c2 x := NdIn.mono (fun b hs hl => ⟨hs, hl⟩) _ _ _ _ _ h
  have h2 : NdIn (fun b => S b ∧ b < w.heap.size) w' d c0 c1 c2 x := NdIn.other (fun b hs hl => (hb b hs.1 hs.2).1) _ _ _ _ _ h1
  exact NdIn.mono (fun b hs _ => (hb b hs.1 hs.2).2) _ _ _ _ _ h2
theorem NdIn.forms {S : Nat → Prop} {w : World} {d : Nat} {c0 c1 c2 : Value} {x : Nd} (h : NdIn S w d c0 c1 c2 x) : ∃ t a1 n1 p1 a2 n2 p2, c0 = .int .i64 t ∧ c1 = .slice a1 n1 p1 ∧ c2 = .slice a2 n2 p2 := by
  cases d with
  | zero => exact h.elim
  | succ d =>
    obtain ⟨t, b, ks⟩ := x
    obtain ⟨rfl, _, ⟨a1, p1, rfl, _⟩, _, _, _, _, a2, p2, rfl, _⟩ := h
    exact ⟨_, _, _, _, _, _, _, rfl, rfl, rfl⟩
theorem own_others {w w' : World} {B size : Nat} {e : TypeId} {v : Value} {n : Nat} {xs : List Value} (h : w.ownsRow B e size v n xs) (hb : ∀ k, B ≤ k → k < w.heap.size → w'.heap[k]? = w.heap[k]?) : w'.ownsRow B e size v n xs := by
  obtain ⟨h1, h2 | ⟨g, cap, cur, rfl, h3, h4, h5⟩⟩ := h
  · exact ⟨h1, .inl h2⟩
  · have hlt : g < w.heap.size := by
      rcases Nat.lt_or_ge g w.heap.size with hlt | hge
      · exact hlt
      · rw [Array.getElem?_eq_none hge] at h4; cases h4
    exact ⟨h1, .inr ⟨g, cap, cur, rfl, h3, by rw [hb g h3 hlt]; exact h4, h5⟩⟩
theorem own_apart {w : World} {B C s r : Nat} {e f : TypeId} {u v : Value} {n m : Nat} {xs ys : List Value} (h : w.ownsRow B e s u n xs) (k : w.ownsRow C f r v m ys) (hef : e ≠ f) : u.ownBlock = none ∨ u.ownBlock ≠ v.ownBlock := by
  obtain ⟨_, ⟨rfl, _⟩ | ⟨g, cap, cur, rfl, _, h4, _⟩⟩ := h
  · exact .inl rfl
  · obtain ⟨_, ⟨rfl, _⟩ | ⟨g', cap', cur', rfl, _, h4', _⟩⟩ := k
    · exact .inr (fun e => by cases e)
    · refine .inr (fun e => ?_)
      have e' : g = g' := by simpa [Value.ownBlock] using e
      subst e'
      rw [h4] at h4'
      simp at h4'
      exact hef h4'.2
theorem own_tidys {w : World} {B s : Nat} {e : TypeId} {v : Value} {n : Nat} {xs : List Value} (h : w.ownsRow B e s v n xs) : Tidy v := by
  intro a c he
  subst he
  obtain ⟨_, ⟨h, _⟩ | ⟨g, cap, cur, h, _⟩⟩ := h
  · simp at h; exact h
  · simp at h

theorem own_slices {w : World} {B s : Nat} {e : TypeId} {v : Value} {n : Nat} {xs : List Value} (h : w.ownsRow B e s v n xs) : ∃ a c, v = .slice a n c := by
  obtain ⟨_, ⟨rfl, h⟩ | ⟨g, cap, cur, rfl, _⟩⟩ := h
  · exact ⟨none, 0, by rw [h]⟩
  · exact ⟨_, _, rfl⟩
theorem cell_at' {w : World} {g i : Nat} {cur : Array Value} {t : TypeId} (h : w.heap[g]? = some (.cells cur t)) : w.cell? ⟨g, i, none⟩ = cur[i]? := by simp [World.cell?, h]
theorem cells_new3 (w : World) (c0 c1 c2 : Value) (t : TypeId) {H : Nat} (hH : w.heap.size = H) : ∀ j u, [c0, c1, c2][j]? = some u → (w.alloc (.cells #[c0, c1, c2] t)).cell? ((⟨H, 0, none⟩ : Addr).add j) = some u := by
  subst hH
  intro j u hj
  have h : (w.alloc (.cells #[c0, c1, c2] t)).heap[w.heap.size]? = some (.cells #[c0, c1, c2] t) := heap_alloc_new w _
  rw [Addr.add_lit, Nat.zero_add]
  rw [cell_at' h, ← hj]
  simp
theorem Tryz.infoN : (Tryz.prog.info? 28).map (fun i => (i.zero, i.size, i.bytes)) = some (some (.agg #[.int .i64 0, .slice none 0 0, .slice none 0 0]), 3, 56) := by kernel_rfl
theorem info_node : ∃ i, Tryz.prog.info? 28 = some i ∧ i.zero = some (.agg #[.int .i64 0, .slice none 0 0, .slice none 0 0]) ∧ i.size = 3 ∧ i.bytes = 56 := by
  have h := Tryz.infoN
  obtain ⟨i, hi, he⟩ := Option.map_eq_some_iff.1 h
  simp only [Prod.mk.injEq] at he
  exact ⟨i, hi, he.1, he.2.1, he.2.2⟩

/-- neither in the one row nor in the other -/
def InS (B0 B : Nat) (kv tv : Value) (q : Nat) : Prop := (q < B0 ∨ B ≤ q) ∧ kv.ownBlock ≠ some q ∧ tv.ownBlock ≠ some q
def KidN (B0 B : Nat) (w : World) (kv tv : Value) (ks : List Nd) : Prop := ∃ d cs, w.ownsRow B 28 3 kv ks.length cs ∧ Trip (InS B0 B kv tv) w d cs ks
def KidT (B0 B : Nat) (w : World) (tv : Value) (ts : List (List Nat)) : Prop := ∃ us, w.ownsRow B 22 1 tv ts.length us ∧ Texts w us ts ∧ ∀ u ∈ us, ValIn (fun q => q < B0) u
theorem KidN.nil (B0 B : Nat) (w : World) (tv : Value) : KidN B0 B w (.slice none 0 0) tv [] := ⟨0, [], World.ownsRow_nil _ _ _ _, Trip.nil _ _ _⟩
theorem KidT.nil (B0 B : Nat) (w : World) : KidT B0 B w (.slice none 0 0) [] := ⟨[], World.ownsRow_nil _ _ _ _, Texts.nil _, fun u hu => by simp at hu⟩
theorem KidN.other {B0 B : Nat} {w w' : World} {kv tv : Value} {ks : List Nd} (h : KidN B0 B w kv tv ks) (hb : ∀ q, q < B0 ∨ B ≤ q → q < w.heap.size → w'.heap[q]? = w.heap[q]?) : KidN B0 B w' kv tv ks := by
  obtain ⟨d, cs, h1, h2⟩ := h
  exact ⟨d, cs, own_others h1 (fun k hk hl => hb k (.inr hk) hl), h2.map (fun _ _ _ _ hn => hn.turn (fun b hs hl => ⟨hb b hs.1 hl, hs⟩))⟩
theorem Texts.turn {B0 : Nat} {w w' : World} {us : List Value} {ts : List (List Nat)} (h : Texts w us ts) (hu : ∀ u ∈ us, ValIn (fun q => q < B0) u) (hb : ∀ q, q < B0 → q < w.heap.size → w'.heap[q]? = w.heap[q]?) : Texts w' us ts :=
  ⟨h.1, fun i hi => by obtain ⟨u, e, hr, ht⟩ := h.2 i hi; exact ⟨u, e, hr.otherIn (hu u (List.mem_of_getElem? e)) hb, ht⟩⟩
theorem KidT.other {B0 B : Nat} {w w' : World} {tv : Value} {ts : List (List Nat)} (h : KidT B0 B w tv ts) (hb : ∀ q, q < B0 ∨ B ≤ q → q < w.heap.size → w'.heap[q]? = w.heap[q]?) : KidT B0 B w' tv ts := by
  obtain ⟨us, h1, h2, h3⟩ := h
  exact ⟨us, own_others h1 (fun k hk hl => hb k (.inr hk) hl), h2.turn h3 (fun q hq hl => hb q (.inl hq) hl), h3⟩
/-- a node more -/
theorem KidN.snoc {B0 B L d d' g cap : Nat} {w w' : World} {kv tv c0 c1 c2 : Value} {o : Obj} {cs : List Value} {ks : List Nd} {x : Nd} (how : w.ownsRow B 28 3 kv ks.length cs) (htr : Trip (InS B0 B kv tv) w d cs ks)
    (hx : NdIn (fun q => q < B0 ∨ L ≤ q) w d' c0 c1 c2 x) (hB : B0 ≤ B) (hL : B ≤ L) (hkv : ∀ q, kv.ownBlock = some q → q < L) (htv : ∀ q, tv.ownBlock = some q → B ≤ q ∧ q < L)
    (hw' : w'.ownsRow B 28 3 (.slice (some ⟨g, 0, none⟩) (ks.length + 1) cap) (ks.length + 1) (cs ++ [c0, c1, c2])) (hg : (w.alloc o).grownBy w' kv.ownBlock) (hlie : kv.ownBlock = some g ∨ g = (w.alloc o).heap.size) :
    KidN B0 B w' (.slice (some ⟨g, 0, none⟩) (ks.length + 1) cap) tv (ks ++ [x]) := by
  have hblk : ∀ q, q < w.heap.size → kv.ownBlock ≠ some q → w'.heap[q]? = w.heap[q]? := fun q hq hne =>
    (hg.block q (by rw [World.size_alloc]; omega) (fun e => hne e.symm)).trans (heap_alloc_old w o hq)
  have hgq : ∀ q, q < w.heap.size → kv.ownBlock ≠ some q → g ≠ q := by
    intro q hq hne e
    rcases hlie with h | h
    · exact hne (by rw [h, e])
    · rw [World.size_alloc] at h; omega
  refine ⟨max d d', cs ++ [c0, c1, c2], by rw [List.length_append, List.length_singleton]; exact hw', Trip.snoc (htr.map (fun _ _ _ _ hn => (hn.le (Nat.le_max_left d d')).turn (fun b hs hl => ⟨hblk b hl hs.2.1, hs.1, ?_, hs.2.2⟩))) ((hx.le (Nat.le_max_right d d')).turn (fun b hs hl => ?_))⟩
  · intro e
    exact hgq b hl hs.2.1 (by simpa [Value.ownBlock] using e)
  · have hne : kv.ownBlock ≠ some b := by
      intro e
      have h1 := hkv b e
      have h2 := (how.lt b e).1
      rcases hs with h | h <;> omega
    refine ⟨hblk b hl hne, ?_, fun e => hgq b hl hne (by simpa [Value.ownBlock] using e), fun e => ?_⟩
    · rcases hs with h | h
      · exact .inl h
      · exact .inr (by omega)
    · obtain ⟨h1, h2⟩ := htv b e
      rcases hs with h | h <;> omega
/-- the other row has grown -/
theorem KidN.beside {B0 B g cap n m : Nat} {w w' : World} {kv tv : Value} {o : Obj} {us : List Value} {ks : List Nd} (h : KidN B0 B w kv tv ks) (hB : B0 ≤ B) (htv : w.ownsRow B 22 1 tv n us) (hg : (w.alloc o).grownBy w' tv.ownBlock) (hlie : tv.ownBlock = some g ∨ g = (w.alloc o).heap.size) :
    KidN B0 B w' kv (.slice (some ⟨g, 0, none⟩) m cap) ks := by
  obtain ⟨d, cs, h1, h2⟩ := h
  have hblk : ∀ q, q < w.heap.size → tv.ownBlock ≠ some q → w'.heap[q]? = w.heap[q]? := fun q hq hne =>
    (hg.block q (by rw [World.size_alloc]; omega) (fun e => hne e.symm)).trans (heap_alloc_old w o hq)
  have hgq : ∀ q, q < w.heap.size → tv.ownBlock ≠ some q → g ≠ q := by
    intro q hq hne e
    rcases hlie with h | h
    · exact hne (by rw [h, e])
    · rw [World.size_alloc] at h; omega
  refine ⟨d, cs, ((h1.alloc o).kept hg (own_apart h1 htv (by decide))), h2.map (fun _ _ _ _ hn => hn.turn (fun b hs hl => ⟨hblk b hl hs.2.2, hs.1, hs.2.1, fun e => hgq b hl hs.2.2 (by simpa [Value.ownBlock] using e)⟩))⟩
/-- a text more -/
theorem KidT.snoc {B0 B g cap : Nat} {w w' : World} {tv u : Value} {o : Obj} {us : List Value} {ts : List (List Nat)} {t : List Nat} (how : w.ownsRow B 22 1 tv ts.length us) (htx : Texts w us ts) (hvi : ∀ u ∈ us, ValIn (fun q => q < B0) u) (hB : B0 ≤ B)
    (hr : Row .u8 256 w u t) (ht : Tidy u) (hu : ValIn (fun q => q < B0) u) (hw' : w'.ownsRow B 22 1 (.slice (some ⟨g, 0, none⟩) (ts.length + 1) cap) (ts.length + 1) (us ++ [u])) (hg : (w.alloc o).grownBy w' tv.ownBlock) :
    KidT B0 B w' (.slice (some ⟨g, 0, none⟩) (ts.length + 1) cap) (ts ++ [t]) := by
  have hblk : ∀ q, q < B0 → q < w.heap.size → w'.heap[q]? = w.heap[q]? := fun q h0 hq =>
    (hg.block q (by rw [World.size_alloc]; omega) (fun e => by have := (how.lt q e.symm).1; omega)).trans (heap_alloc_old w o hq)
  have hall : ∀ v ∈ us ++ [u], ValIn (fun q => q < B0) v := by
    intro v hv
    rcases List.mem_append.1 hv with h | h
    · exact hvi v h
    · rw [List.mem_singleton] at h; rw [h]; exact hu
  exact ⟨us ++ [u], by rw [List.length_append, List.length_singleton]; exact hw', (htx.append (Texts.one hr ht)).turn hall hblk, hall⟩
theorem KidT.beside {B0 B n : Nat} {w w' : World} {kv tv : Value} {o : Obj} {cs : List Value} {ts : List (List Nat)} (h : KidT B0 B w tv ts) (hB : B0 ≤ B) (hkv : w.ownsRow B 28 3 kv n cs) (hg : (w.alloc o).grownBy w' kv.ownBlock) : KidT B0 B w' tv ts := by
  obtain ⟨us, h1, h2, h3⟩ := h
  exact ⟨us, ((h1.alloc o).kept hg (own_apart h1 hkv (by decide))), h2.turn h3 (fun q h0 hq => (hg.block q (by rw [World.size_alloc]; omega) (fun e => by have := (hkv.lt q e.symm).1; omega)).trans (heap_alloc_old w o hq)), h3⟩
/-- the node whose parts they are -/
theorem KidN.node {B0 B C : Nat} {w : World} {kv tv : Value} {ks : List Nd} (h : KidN B0 B w kv tv ks) (hC : C ≤ B) (t : Int) (ht : I64 t) : ∃ d, NdIn (fun q => q < B0 ∨ C ≤ q) w d (.int .i64 t) (.slice none 0 0) kv (.mk t [] ks) := by
  obtain ⟨d, cs, h1, h2⟩ := h
  have h3 : Trip (fun q => q < B0 ∨ C ≤ q) w d cs ks := h2.map (fun _ _ _ _ hn => hn.turn (fun b hs hl => ⟨rfl, by rcases hs.1 with h | h; exact .inl h; exact .inr (by omega)⟩))
  exact ⟨d + 1, rfl, ht, ⟨none, 0, rfl, Nat.le_refl _, Nat.zero_le _, fun h => by simp at h, fun x hx => by simp at hx⟩, fun a c he => by simp at he; omega, own_tidys h1, fun q hq => by simp [lenV] at hq, fun q _ hq => .inr (by have := (h1.lt q hq).1; omega), h3.kids h1⟩
theorem KidT.rows {B0 B : Nat} {w : World} {tv : Value} {ts : List (List Nat)} (h : KidT B0 B w tv ts) : Rows2 w tv ts := by
  obtain ⟨us, h1, h2, _⟩ := h
  exact h2.rows2 h1
end Go.Proofs.YtlddpjcacnahmaaGreatDoor
