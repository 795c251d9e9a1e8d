/- Words for the three laws. -/
import Derived.Test.YtcddoognlhpaaaaPAwk
namespace Go.Proofs.Ytcddoognlhpaaaa
open Go.RowKit Go.Deep
set_option linter.unusedVariables false

theorem Rows2.len {w : World} {a : Option Addr} {n cap : Nat} {l : List (List Nat)} (h : Rows2 w (.slice a n cap) l) : n = l.length := by
  obtain ⟨_, _, he, _⟩ := h
  simp at he
  exact he.2.1
theorem rsame2_true (va vb : Value) (l m : List (List Nat)) (w : World) (ha : Rows2 w va l) (hb : Rows2 w vb m) (he : l = m) :
    Calls Try.prog 10 #[va, vb] w fun e w' => e = .returned (.bool true) ∧ Below w.heap.size w w' :=
  (rsame2_any va vb l m w ha hb).mono fun _ _ ⟨h1, h2⟩ => ⟨by rw [h1, decide_eq_true he], h2.below⟩
theorem short_of {l : List (List Nat)} {n : Nat} (h : l.flatten.length ≤ n) : ∀ t ∈ l, t.length ≤ n := by
  intro t ht
  have : t.length ≤ l.flatten.length := by
    induction l with
    | nil => simp at ht
    | cons x l ih =>
      rw [List.flatten_cons, List.length_append]
      rcases List.mem_cons.1 ht with rfl | h2
      · omega
      · have := ih (by rw [List.flatten_cons, List.length_append] at h; omega) h2
        omega
  omega
theorem bts_inj {l m : List Nat} (hl : Under 256 l) (hm : Under 256 m) (h : bts l = bts m) : l = m := by
  have h1 := cmp_less l m hl hm
  have h2 := cmp_less m l hm hl
  have h3 := cmp_less l l hl hl
  rw [less_self] at h3
  rw [← h, h3] at h1 h2
  exact less_total l m h1.symm h2.symm
/-- a text as a string -/
def stg (l : List Nat) : ByteArray := ⟨(bts l).toArray⟩
theorem stg_inj {l m : List Nat} (hl : Under 256 l) (hm : Under 256 m) (h : stg l = stg m) : l = m := by
  refine bts_inj hl hm ?_
  have := congrArg (fun b => b.data.toList) h
  simpa [stg] using this
theorem toList_inj {a b : ByteArray} (h : a.toList = b.toList) : a = b := by
  rw [Lib.toList_data, Lib.toList_data] at h
  apply ByteArray.ext
  exact Array.toList_inj.1 h
theorem own_empty (w : World) (e : TypeId) : (w.alloc (.cells #[] e)).ownsRow w.heap.size e 1 (.slice (some ⟨w.heap.size, 0, none⟩) 0 0) 0 [] := World.ownsRow_lit (base := w.heap.size) (e := e) (size := 1) w #[] 0 (Nat.le_refl _) (by decide) rfl
theorem below_empty {w w' : World} {e : TypeId} {n c : Nat} (hg : (w.alloc (.cells #[] e)).grownBy w' (Value.slice (some ⟨w.heap.size, 0, none⟩) n c).ownBlock) : Below w.heap.size w w' := by
  refine ((Below.refl w.heap.size w).alloc (Nat.le_refl _) _).grown hg (by simp) (fun k h => ?_)
  have h' : some w.heap.size = some k := h
  have := Option.some.inj h'
  omega
/-- two lists, and what they are sorted, are there -/
def SoS (w : World) (v0 v1 va vb : Value) (l m : List (List Nat)) (wr : World) : Prop := Below w.heap.size w wr ∧ Rows2 wr v0 l ∧ Rows2 wr v1 m ∧ Rows2 wr va (sortL l) ∧ Rows2 wr vb (sortL m)
theorem SoS.below {w wr wr' : World} {v0 v1 va vb : Value} {l m : List (List Nat)} (h : SoS w v0 v1 va vb l m wr) (hb : Below wr.heap.size wr wr') : SoS w v0 v1 va vb l m wr' :=
  ⟨keep_trans h.1 hb, h.2.1.below hb, h.2.2.1.below hb, h.2.2.2.1.below hb, h.2.2.2.2.below hb⟩
theorem Texts.swp {w : World} {us : List Value} {l : List (List Nat)} (h : Texts w us l) {i j : Nat} (hi : i < l.length) (hj : j < l.length) {ui uj : Value} (ei : us[i]? = some ui) (ej : us[j]? = some uj) : Texts w ((us.set i uj).set j ui) (swp l i j) := by
  obtain ⟨x, hx, rx⟩ := h.2 i hi
  obtain ⟨y, hy, ry⟩ := h.2 j hj
  rw [ei] at hx; cases hx
  rw [ej] at hy; cases hy
  have hl := h.1
  refine ⟨by simp [swp_len, hl], fun k hk => ?_⟩
  rw [swp_len] at hk
  obtain ⟨z, hz, rz⟩ := h.2 k hk
  rw [swp_tx hi hj]
  by_cases hkj : k = j
  · subst hkj
    rw [if_pos rfl]
    exact ⟨ui, by rw [List.getElem?_set]; simp; omega, rx⟩
  · rw [if_neg hkj]
    by_cases hki : k = i
    · subst hki
      rw [if_pos rfl]
      exact ⟨uj, by rw [List.getElem?_set, if_neg (Ne.symm hkj), List.getElem?_set]; simp; omega, ry⟩
    · rw [if_neg hki]
      exact ⟨z, by rw [List.getElem?_set, if_neg (Ne.symm hkj), List.getElem?_set, if_neg (Ne.symm hki)]; exact hz, rz⟩
end Go.Proofs.Ytcddoognlhpaaaa
