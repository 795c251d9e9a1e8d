/- All that is taken from a heap, one behind the other: order.drain. -/
import Derived.Test.YtcddoognlhpaaaaPPop
import Derived.Test.YtcddoognlhpaaaaPApp
namespace Go.Proofs.Ytcddoognlhpaaaa
open Go.RowKit Go.Deep
set_option linter.unusedVariables false

/-- how long a slice is -/
def lenV : Value → Nat
  | .slice _ n _ => n
  | _ => 0
theorem own_len {w : World} {B : Nat} {e : TypeId} {v : Value} {n : Nat} {xs : List Value} (h : w.ownsRow B e 1 v n xs) : lenV v = n := by
  obtain ⟨_, ⟨rfl, h⟩ | ⟨g, cap, cur, rfl, _⟩⟩ := h
  · rw [h]; rfl
  · rfl
theorem own_other {w w' : World} {B : Nat} {e : TypeId} {v : Value} {n : Nat} {xs : List Value} (h : w.ownsRow B e 1 v n xs) (hb : ∀ k, B ≤ k → k < w.heap.size → w'.heap[k]? = w.heap[k]?) : w'.ownsRow B e 1 v n xs := by
  obtain ⟨h1, h2 | ⟨g, cap, cur, rfl, h3, h4, h5⟩⟩ := h
  · exact ⟨h1, .inl h2⟩
  · have hlt : g < w.heap.size := by
      rcases Nat.lt_or_ge g w.heap.size with hlt | hge
      · exact hlt
      · rw [Array.getElem?_eq_none hge] at h4; cases h4
    exact ⟨h1, .inr ⟨g, cap, cur, rfl, h3, by rw [hb g h3 hlt]; exact h4, h5⟩⟩
theorem own_unlike {w : World} {B C : Nat} {e f : TypeId} {u v : Value} {n m : Nat} {xs ys : List Value} (h : w.ownsRow B e 1 u n xs) (k : w.ownsRow C f 1 v m ys) (hef : e ≠ f) : u.ownBlock = none ∨ u.ownBlock ≠ v.ownBlock := by
  obtain ⟨_, ⟨rfl, _⟩ | ⟨g, cap, cur, rfl, _, h4, _⟩⟩ := h
  · exact .inl rfl
  · obtain ⟨_, ⟨rfl, _⟩ | ⟨g', cap', cur', rfl, _, h4', _⟩⟩ := k
    · exact .inr (fun e => by cases e)
    · refine .inr (fun e => ?_)
      have e' : g = g' := by simpa [Value.ownBlock] using e
      subst e'
      rw [h4] at h4'
      simp at h4'
      exact hef h4'.2
theorem own_tidy {w : World} {B : Nat} {e : TypeId} {v : Value} {n : Nat} {xs : List Value} (h : w.ownsRow B e 1 v n xs) : Tidy v := by
  intro a c he
  subst he
  obtain ⟨_, ⟨h, _⟩ | ⟨g, cap, cur, h, _⟩⟩ := h
  · simp at h; exact h
  · simp at h
theorem row_news {w : World} {a : Option Addr} {n cap : Nat} {l : List Nat} (h : Row .u8 256 w (.slice a n cap) l) : n = l.length ∧ (0 < n → ∃ b off, a = some ⟨b, off, none⟩ ∧ ∀ j u, (vals .u8 l)[j]? = some u → w.cell? ⟨b, off + j, none⟩ = some u) := by
  obtain ⟨a', cap', he, h1, h2, h3, h4⟩ := h
  simp at he
  obtain ⟨rfl, rfl, rfl⟩ := he
  refine ⟨rfl, fun hl => ?_⟩
  obtain ⟨b, off, rfl, hc⟩ := h3 hl
  refine ⟨b, off, rfl, fun j u hj => ?_⟩
  have hj' : j < l.length := by have := (List.getElem?_eq_some_iff.1 hj).1; rwa [vals_length] at this
  rw [vals_get _ _ _ hj'] at hj
  rw [hc j hj']
  exact hj

/-- texts of the call's own, in a slice of the call's own -/
def Outs (B : Nat) (w : World) (v : Value) (o : List (List Nat)) : Prop := ∃ us, w.ownsRow B 25 1 v o.length us ∧ us.length = o.length ∧ ∀ i, i < o.length → ∃ u, us[i]? = some u ∧ Own 5 .u8 256 w B u (tx o i)
theorem Outs.nil (B : Nat) (w : World) : Outs B w (.slice none 0 0) [] := ⟨[], World.ownsRow_nil _ _ _ _, rfl, fun i hi => by simp at hi⟩
theorem Outs.other {B : Nat} {w w' : World} {v : Value} {o : List (List Nat)} (h : Outs B w v o) (hb : ∀ k, B ≤ k → k < w.heap.size → w'.heap[k]? = w.heap[k]?) : Outs B w' v o := by
  obtain ⟨us, h1, h2, h3⟩ := h
  exact ⟨us, own_other h1 hb, h2, fun i hi => by obtain ⟨u, hu, ho, hn⟩ := h3 i hi; exact ⟨u, hu, own_other ho hb, hn⟩⟩
theorem Outs.texts {B : Nat} {w : World} {v : Value} {o : List (List Nat)} (h : Outs B w v o) : Rows2 w v o := by
  obtain ⟨us, h1, h2, h3⟩ := h
  exact Texts.rows2 ⟨h2, fun i hi => by obtain ⟨u, hu, ho⟩ := h3 i hi; exact ⟨u, hu, ho.row, own_tidy ho.1⟩⟩ h1
theorem grown_kept {w w' : World} {B : Nat} {e : TypeId} {u : Value} {n : Nat} {xs : List Value} {row : Option Nat} (h : w.ownsRow B e 1 u n xs) (hg : w.grownBy w' row) (hne : u.ownBlock = none ∨ u.ownBlock ≠ row) : w'.ownsRow B e 1 u n xs := h.kept hg hne
/-- a text more -/
theorem Outs.snoc {B : Nat} {w w1 w3 : World} {v t v' : Value} {o : List (List Nat)} {x : List Nat} {us : List Value} (how : w.ownsRow B 25 1 v o.length us) (hul : us.length = o.length)
    (hel : ∀ i, i < o.length → ∃ u, us[i]? = some u ∧ Own 5 .u8 256 w B u (tx o i)) (h1 : w.grownBy w1 none) (ho : Own 5 .u8 256 w1 B t x) (h3 : w3.ownsRow B 25 1 v' (o.length + 1) (us ++ [t]))
    (hg : (w1.alloc (.cells #[t] 25)).grownBy w3 v.ownBlock) : Outs B w3 v' (o ++ [x]) := by
  have how1 : w1.ownsRow B 25 1 v o.length us := how.kept h1 (by cases hv : v.ownBlock with | none => exact .inl rfl | some k => exact .inr (by simp))
  have how2 := how1.alloc (.cells #[t] 25)
  refine ⟨us ++ [t], by rw [List.length_append]; exact h3, by simp [hul], fun i hi => ?_⟩
  rw [List.length_append] at hi
  by_cases hl : i < o.length
  · obtain ⟨u, hu, hou, hun⟩ := hel i hl
    have a1 : w1.ownsRow B 5 1 u _ _ := hou.kept h1 (by cases hv : u.ownBlock with | none => exact .inl rfl | some k => exact .inr (by simp))
    have a2 := a1.alloc (.cells #[t] 25)
    have a3 := a2.kept hg (own_unlike a2 how2 (by decide))
    have e : tx (o ++ [x]) i = tx o i := by unfold tx; rw [List.getElem?_append_left hl]
    exact ⟨u, by rw [List.getElem?_append_left (by omega)]; exact hu, by rw [e]; exact ⟨a3, hun⟩⟩
  · have hi0 : i = o.length := by simp at hi; omega
    subst hi0
    have a2 := ho.1.alloc (.cells #[t] 25)
    have a3 := a2.kept hg (own_unlike a2 how2 (by decide))
    have e : tx (o ++ [x]) o.length = x := by unfold tx; simp
    exact ⟨t, by rw [List.getElem?_append_right (by omega), hul]; simp, by rw [e]; exact ⟨a3, ho.2⟩⟩

theorem Pile.far {w0 w w' : World} {P g B : Nat} {l : List (List Nat)} (h : Pile w0 P g w l) (hP : P < B) (hg : g < B) (hb : Below B w w') : Pile w0 P g w' l := by
  obtain ⟨h0, h1, h2, h3, a, cap, h4, h5, h6, h7⟩ := h
  refine ⟨h0.trans (hb.mono (by omega)), h1, h2, h3, a, cap, (hb.block P hP).trans h4, h5, h6, fun hl => ?_⟩
  obtain ⟨e, cur, hc, hh⟩ := h7 hl
  exact ⟨e, cur, (hb.block g hg).trans hc, hh⟩

/-- on the way: so many are taken, and what comes next -/
def DrS (w0 : World) (P g : Nat) (l : List (List Nat)) (B : Nat) (vo tv : Value) (b : Bool) (wr : World) : Prop :=
  ∃ o, Outs B wr vo o ∧ Below w0.heap.size w0 wr ∧ B ≤ wr.heap.size ∧ ((b = false ∧ Taken l o []) ∨ (b = true ∧ ∃ x rest, Row .u8 256 w0 tv x ∧ Tidy tv ∧ Taken l (o ++ [x]) rest ∧ Hp 0 rest.length rest ∧ Pile w0 P g wr rest))
theorem Taken.len {l o r : List (List Nat)} (h : Taken l o r) : o.length + r.length = l.length := by rw [← h.2.1.length_eq, List.length_append]
theorem DrS.from_pop {w0 w w' : World} {P g B : Nat} {l o rest : List (List Nat)} {vo u : Value} (hO : Outs B w vo o) (hT : Taken l o rest) (hE : PopE w0 P g rest w u w') (hB : B ≤ w.heap.size) (hP : P < B) (hg : g < B) : DrS w0 P g l B vo u true w' := by
  obtain ⟨x, r', hr, ht, hp, hm, hh, hpile, ha⟩ := hE
  exact ⟨o, hO.other (fun k h1 h2 => ha.block k h2 (by omega) (by omega)), hpile.1, Nat.le_trans hB ha.size, .inr ⟨rfl, x, r', hr, ht, hT.next hp hm, hh, hpile⟩⟩

/-- what drain tells -/
def DrE (w0 : World) (l : List (List Nat)) (e : Ending) (w' : World) : Prop := ∃ v, e = .returned v ∧ Rows2 w' v (sortL l) ∧ Below w0.heap.size w0 w'

theorem next_any (w0 w : World) (P g : Nat) (l o rest : List (List Nat)) (B : Nat) (vo : Value) (h : Pile w0 P g w rest) (hh : Hp 0 rest.length rest) (hl : l.length ≤ 1000000) (hO : Outs B w vo o) (hT : Taken l o rest) (hB : B ≤ w.heap.size) (hP : P < B) (hg : g < B) :
    Calls Try.prog 23 #[.pointer (some ⟨P, 0, none⟩)] w fun e w' => ∃ u b, e = .returned (.tuple #[u, .bool b]) ∧ Hid (DrS w0 P g l B vo u b w') := by
  cases hr : rest with
  | nil =>
    subst hr
    refine (next_none w0 w P g h).mono ?_
    rintro e w' ⟨rfl, rfl⟩
    exact ⟨_, false, rfl, hide ⟨o, hO, h.1, hB, .inl ⟨rfl, hT⟩⟩⟩
  | cons x r =>
    have hlen : rest.length = r.length + 1 := by rw [hr]; rfl
    have hle := hT.len
    refine (next_some w0 w P g rest r.length h hlen (by omega) hh).mono ?_
    rintro e w' ⟨u, rfl, hE⟩
    exact ⟨u, true, rfl, hide (DrS.from_pop hO hT hE hB hP hg)⟩

theorem own_slice {w : World} {B : Nat} {e : TypeId} {v : Value} {n : Nat} {xs : List Value} (h : w.ownsRow B e 1 v n xs) : ∃ a c, v = .slice a n c := by
  obtain ⟨_, ⟨rfl, h⟩ | ⟨g, cap, cur, rfl, _⟩⟩ := h
  · exact ⟨none, 0, by rw [h]⟩
  · exact ⟨_, _, rfl⟩
theorem cells_new1 (w : World) (x : Value) (t : TypeId) : ∀ j u, [x][j]? = some u → (w.alloc (.cells #[x] t)).cell? ⟨w.heap.size, 0 + j, none⟩ = some u := by
  intro j u hj
  have := cells_new w x t j u hj
  rwa [Addr.add_lit] at this
theorem none_kept {w w' : World} {B : Nat} {e : TypeId} {v : Value} {n : Nat} {xs : List Value} (h : w.ownsRow B e 1 v n xs) (hg : w.grownBy w' none) : w'.ownsRow B e 1 v n xs :=
  h.kept hg (by cases hv : v.ownBlock with | none => exact .inl rfl | some k => exact .inr (by simp))
theorem Taken.mem {l o r : List (List Nat)} {x : List Nat} (h : Taken l (o ++ [x]) r) : x ∈ l := h.2.1.subset (by simp)

set_option maxHeartbeats 4000000 in
theorem drain_any (w0 w : World) (P g : Nat) (l : List (List Nat)) (h : Pile w0 P g w l) (hh : Hp 0 l.length l) (hl : l.length ≤ 1000000) (hS : ∀ t ∈ l, t.length ≤ 1000000) (hP : P < w.heap.size) (hg : g < w.heap.size) :
    Calls Try.prog 21 #[.func (.func 23) #[.pointer (some ⟨P, 0, none⟩)] #[]] w fun e w' => DrE w0 l e w' := by
  have hnext := next_any w0 w P g l [] l w.heap.size (.slice none 0 0) h hh hl (Outs.nil _ _) (Taken.start l l (List.Perm.refl _)) (Nat.le_refl _) hP hg
  have hw0 : w0.heap.size ≤ w.heap.size := h.1.size
  clear h hh
  obtain ⟨i0, hi, hz0, hz1, hz2⟩ := info_byte
  obtain ⟨i1, hj, hy0, hy1, hy2⟩ := info_text
  go_enter Try.func21, Try.ntmps21
  go_wp2_with fail
  refine hnext.mono ?_
  rintro e w1 ⟨u, b, rfl, HS⟩
  clear hnext
  go_wp2
  go_loopw [3, 4, 5] (fun vo tv ok wr => ∃ b, ok = .bool b ∧ Hid (DrS w0 P g l w.heap.size vo tv b wr)) (fun vo _ _ _ => l.length - lenV vo)
  case atStart => exact ⟨b, rfl, HS⟩
  case round =>
    clear HS
    obtain ⟨b', rfl, HS⟩ := hrel
    obtain ⟨o, hO, hb, hB, ⟨rfl, hT⟩ | ⟨rfl, x, rest, hr, ht, hT, hh, hpile⟩⟩ := HS.out
    · have HR : Hid (Rows2 wr u3 (sortL l)) := hide (by rw [← hT.done]; exact hO.texts)
      clear HS hO
      go_wp2
      go_ret
      exact ⟨u3, rfl, HR.out, hb⟩
    · obtain ⟨us, how, hul, hel⟩ := hO
      have hlen := hT.len
      rw [List.length_append, List.length_singleton] at hlen
      have hx := hS x hT.mem
      have hrow := hr.below hb
      have HU := hide hrow.under
      obtain ⟨a1, c1, rfl, _⟩ := hr
      obtain ⟨_, hnews⟩ := row_news hrow
      have HL := hide (own_len how)
      have HEL := hide hel
      have HT := hide hT
      have HPI := hide hpile
      clear HS hel hT hrow hpile ht
      go_wp2_with (first
        | (at_builtin; refine wpList_append_rows _ rfl _ _ 25 25 5 rfl Try.underlying25 w.heap.size 5 i0 (.int .u8 0) 1 Try.underlying25 hi hz0 hz1 hz2 rfl (.slice none 0 0) 0 [] rfl (World.ownsRow_nil _ _ _ _) a1 x.length c1 (vals .u8 x) rfl (vals_length _ _) hnews (vals_one _ _) (by unfold maxLen; omega) (by omega) hB ?_; intro t w2 how2 hg2; rw [Nat.zero_add, List.nil_append] at how2; obtain ⟨ta, tc, rfl⟩ := own_slice how2; have hs2 := hg2.size)
        | (at_builtin; refine wpList_append_rows _ rfl _ _ 22 22 25 rfl Try.underlying22 w.heap.size 25 i1 (.slice none 0 0) 24 Try.underlying22 hj hy0 hy1 hy2 rfl _ _ _ rfl ((none_kept how hg2).alloc _) (some ⟨w2.heap.size, 0, none⟩) 1 1 [.slice ta x.length tc] rfl rfl (fun _ => ⟨_, _, rfl, cells_new1 w2 _ _⟩) (by simp [Value.oneCell']) (by unfold maxLen; omega) (by omega) (by simp; omega) ?_; intro v3 w3 how3 hg3)
        | fail)
      have hO3 : Outs w.heap.size w3 v3 (o ++ [x]) := Outs.snoc how hul HEL.out hg2 ⟨how2, HU.out⟩ how3 hg3
      have hB3 : w.heap.size ≤ w3.heap.size := by have := hg3.size; simp at this; omega
      have hb3 : Below w.heap.size wr w3 := (((Below.refl w.heap.size wr).grown hg2 hB (fun k e => by cases e)).alloc (by omega) _).grown hg3 (by simp; omega) (fun k e => (how.lt k e).1)
      have hnext := next_any w0 w3 P g l (o ++ [x]) rest w.heap.size v3 (HPI.out.far hP hg hb3) hh hl hO3 HT.out hB3 hP hg
      have HL3 := hide (own_len how3)
      refine hnext.mono ?_
      rintro e w4 ⟨u', b', rfl, HS'⟩
      clear hnext hO3 how hul hg2 how2 how3 hg3 hb3 hnews hj hi
      go_wp2
      go_roundw
      case rel => exact ⟨b', rfl, HS'⟩
      case measure =>
        have e1 := HL.out
        have e3 := HL3.out
        simp
        omega
end Go.Proofs.Ytcddoognlhpaaaa
