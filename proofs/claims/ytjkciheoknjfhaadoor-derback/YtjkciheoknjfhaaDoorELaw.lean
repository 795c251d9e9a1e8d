/- Words for the laws of der. -/
import Derived.Test.YtjkciheoknjfhaaDoorEFrm
import Derived.Test.YtjkciheoknjfhaaDoorEByt
import Derived.Test.YtjkciheoknjfhaaDoorESam
namespace Go.Proofs.YtjkciheoknjfhaaDoor
open Go.RowKit Go.Deep
set_option linter.unusedVariables false

/-- Small, at the laws' bound: it is so small, or it is not -/
theorem small_der (d : Nat) (c0 c1 c2 : Value) (x : Nd) (w : World) (h : NdAt w d c0 c1 c2 x) :
    Calls Tryd.prog 12 #[.agg #[c0, c1, c2], .int .i64 3000] w fun e w' => (∃ r : Int, e = .returned (.int .i64 r) ∧ r < 3000 ∧ -2000000 ≤ r ∧ (0 ≤ r → szF d x ≤ 3000)) ∧ Below w.heap.size w w' := by
  refine (rsmall_any d c0 c1 c2 x 3000 w h (by omega) (by omega)).mono ?_
  rintro e w1 ⟨⟨r, rfl, h1, h2, h3⟩, hb⟩
  exact ⟨⟨r, rfl, h1, h2, fun h0 => by have := h3 h0; omega⟩, hb⟩
theorem same_der {w : World} {d d' : Nat} {a0 a1 a2 b0 b1 b2 : Value} {x y : Nd} (h : NdAt w d a0 a1 a2 x) (h' : NdAt w d' b0 b1 b2 y) :
    Calls Tryd.prog 20 #[.agg #[a0, a1, a2], .agg #[b0, b1, b2]] w fun e w' => SameE x y w e w' :=
  dsame_any (max d d') a0 a1 a2 b0 b1 b2 x y w (h.le (Nat.le_max_left _ _)) (h'.le (Nat.le_max_right _ _))
theorem rsame_der {w : World} {d d' : Nat} {a0 a1 a2 b0 b1 b2 : Value} {x y : Nd} (h : NdAt w d a0 a1 a2 x) (h' : NdAt w d' b0 b1 b2 y) :
    Calls Tryd.prog 11 #[.agg #[a0, a1, a2], .agg #[b0, b1, b2]] w fun e w' => SameE x y w e w' :=
  rsameN_any (max d d') a0 a1 a2 b0 b1 b2 x y w (h.le (Nat.le_max_left _ _)) (h'.le (Nat.le_max_right _ _))
/-- the same answer, told as a number that hangs on the two alone -/
theorem sameE_bool {x y : Nd} {w w' : World} {e : Ending} {r : Bool} (h : SameE x y w e w') (hr : r = true ↔ x = y) : e = .returned (.bool r) ∧ Below w.heap.size w w' := by
  obtain ⟨⟨q, rfl, hq⟩, hb⟩ := h
  have : q = r := Bool.eq_iff_iff.2 (hq.trans hr.symm)
  exact ⟨by rw [this], hb⟩
theorem same_bool (x y : Nd) : ∃ r : Bool, r = true ↔ x = y := ⟨@decide (x = y) (Classical.propDecidable _), @decide_eq_true_iff (x = y) (Classical.propDecidable _)⟩
theorem sum_len (FB : Int → List Nat → Bool) (d deep : Nat) (h : ∀ x l, wrD FB deep x = some l → szF d x ≤ l.length) : ∀ (ks : List Nd) (bs : List (List Nat)), allS (wrD FB deep) ks = some bs → (ks.map (szF d)).sum ≤ bs.flatten.length
  | [], bs, ha => by rw [allS] at ha; cases ha; simp
  | x :: ks, bs, ha => by
    rw [allS] at ha
    cases hx : wrD FB deep x with
    | none => rw [hx] at ha; cases ha
    | some b =>
      rw [hx] at ha
      cases hk : allS (wrD FB deep) ks with
      | none => rw [hk] at ha; cases ha
      | some cs =>
        rw [hk] at ha
        cases ha
        have h1 := h x b hx
        have h2 := sum_len FB d deep h ks cs hk
        simp only [List.flatten_cons, List.length_append, List.map_cons, List.sum_cons]
        omega
/-- a value has no more parts and bytes than bytes as it is written -/
theorem sz_len (FB : Int → List Nat → Bool) : ∀ (deep d : Nat) (x : Nd) (l : List Nat), wrD FB deep x = some l → szF d x ≤ l.length
  | 0, d, x, l, h => by rw [wrD] at h; cases h
  | deep + 1, 0, x, l, h => by rw [szF]; omega
  | deep + 1, d + 1, .mk t b ks, l, h => by
    rw [szF]
    rw [wrD] at h
    split at h
    · cases h
    · split at h
      · split at h
        · cases h
        · rename_i hc
          cases h
          have h1 := lenE_len b.length
          have hk : ks = [] := List.eq_nil_of_length_eq_zero (by omega)
          subst hk
          simp only [List.length_append, List.length_cons, List.map_nil, List.sum_nil]
          omega
      · split at h
        · cases h
        · rename_i hb
          cases ha : allS (wrD FB deep) ks with
          | none => rw [ha] at h; cases h
          | some bs =>
            rw [ha] at h
            simp only at h
            split at h
            · cases h
            · cases h
              have h1 := lenE_len bs.flatten.length
              have h2 := sum_len FB d deep (fun y l hy => sz_len FB deep d y l hy) ks bs ha
              simp only [List.length_append, List.length_cons]
              omega
theorem size_of_bytes {FB : Int → List Nat → Bool} {x : Nd} {l : List Nat} (h : bytesD FB x = some l) (d : Nat) : szF d x ≤ l.length := sz_len FB 32 d x l (bytes_wr h).1
theorem BytE.good {r : Option (List Nat)} {l : List Nat} {w w' : World} {e : Ending} (h : BytE r w e w') (hr : r = some l) : ∃ v, e = .returned (.tuple #[v, .int .i64 0]) ∧ Row .u8 256 w' v l ∧ Tidy v ∧ Below w.heap.size w w' := by
  obtain ⟨⟨l', v, h1, h2, h3, h4⟩ | ⟨h1, _⟩, hb⟩ := h
  · rw [hr] at h1
    cases h1
    exact ⟨v, h2, h3, h4, hb⟩
  · rw [hr] at h1
    cases h1
end Go.Proofs.YtjkciheoknjfhaaDoor
