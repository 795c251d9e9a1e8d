/- der's writer: content, under what value tells one layer below. -/
import Derived.Test.YtlddpjcacnahmaaGreatDoorEWHd
import Derived.Test.YtlddpjcacnahmaaGreatDoorEFit
import Derived.Test.YtlddpjcacnahmaaGreatDoorDWr
namespace Go.Proofs.YtlddpjcacnahmaaGreatDoor
open Go.RowKit Go.Deep
set_option linter.unusedVariables false

/-- a value's blocks are those that there are -/
theorem NdAt.inOld {w : World} : ∀ (d : Nat) (c0 c1 c2 : Value) (x : Nd), NdAt w d c0 c1 c2 x → NdIn (fun k => k < w.heap.size) w d c0 c1 c2 x := by
  intro d
  induction d with
  | zero => intro c0 c1 c2 x h; exact h.elim
  | succ d ih =>
    rintro c0 c1 c2 ⟨t, b, ks⟩ ⟨h1, h2, h3, h4, h5, a, cap, rfl, h7, h8, h9⟩
    have h3' := h3
    obtain ⟨ba, bc, rfl, _, _, hcell, _⟩ := h3'
    refine ⟨h1, h2, h3, h4, h5, fun bb hp he => ?_, fun bb hp he => ?_, a, cap, rfl, h7, h8, fun hl => ?_⟩
    · obtain ⟨b0, o0, rfl, hc⟩ := hcell hp
      have c := hc 0 hp
      have e : b0 = bb := by simpa [Value.ownBlock] using he
      subst e
      exact World.block_lt_of_cell? w _ c
    · obtain ⟨b0, o0, rfl, hc⟩ := h9 hp
      obtain ⟨k0, k1, k2, k3, _⟩ := hc 0 hp
      have e : b0 = bb := by simpa [Value.ownBlock] using he
      subst e
      exact World.block_lt_of_cell? w _ k3.1
    · obtain ⟨bl, off, rfl, hc⟩ := h9 hl
      refine ⟨bl, off, rfl, fun i hi => ?_⟩
      obtain ⟨k0, k1, k2, k3, k4⟩ := hc i hi
      exact ⟨k0, k1, k2, k3, ih _ _ _ _ k4⟩
/-- what stands behind the length, if it is fit -/
def ctD (FB : Int → List Nat → Bool) (deep : Nat) : Nd → Option (List Nat)
  | .mk t b ks =>
    if boxedB t = false then (if ks.length = 0 ∧ plainB t = true ∧ FB t b = true then some b else none)
    else if b.length ≠ 0 then none
    else match allS (wrD FB deep) ks with
      | none => none
      | some bs => if t = 49 ∧ sortedB bs = false then none else some bs.flatten
theorem len_sum (FB : Int → List Nat → Bool) (d deep : Nat) (h : ∀ x l, wrD FB deep x = some l → (∃ w c0 c1 c2, NdAt w d c0 c1 c2 x) → l.length ≤ 5 * szF d x) : ∀ (ks : List Nd) (bs : List (List Nat)), (∀ x ∈ ks, ∃ w c0 c1 c2, NdAt w d c0 c1 c2 x) → allS (wrD FB deep) ks = some bs → bs.flatten.length ≤ 5 * (ks.map (szF d)).sum
  | [], bs, _, ha => by rw [allS] at ha; cases ha; simp
  | x :: ks, bs, hn, ha => by
    rw [allS] at ha
    cases hx : wrD FB deep x with
    | none => rw [hx] at ha; cases ha
    | some b =>
      rw [hx] at ha
      cases hk : allS (wrD FB deep) ks with
      | none => rw [hk] at ha; cases ha
      | some cs =>
        rw [hk] at ha
        cases ha
        have h1 := h x b hx (hn x (by simp))
        have h2 := len_sum FB d deep h ks cs (fun y hy => hn y (by simp [hy])) hk
        simp only [List.flatten_cons, List.length_append, List.map_cons, List.sum_cons]
        omega
theorem kids_nd {w : World} {d : Nat} {ck : Value} {ks : List Nd} (h : KidsAt (NdAt w d) w ck ks) : ∀ x ∈ ks, ∃ w c0 c1 c2, NdAt w d c0 c1 c2 x := by
  intro x hx
  obtain ⟨i, hi, rfl⟩ := List.getElem_of_mem hx
  obtain ⟨a, cap, rfl, _, _, h9⟩ := h
  obtain ⟨bl, off, rfl, hc⟩ := h9 (by omega)
  obtain ⟨k0, k1, k2, _, k4⟩ := hc i hi
  rw [kx_at hi] at k4
  exact ⟨w, k0, k1, k2, k4⟩
theorem wr_size (FB : Int → List Nat → Bool) : ∀ (deep d : Nat) (x : Nd) (l : List Nat), wrD FB deep x = some l → (∃ w c0 c1 c2, NdAt w d c0 c1 c2 x) → l.length ≤ 5 * szF d x
  | 0, d, x, l, h, _ => by rw [wrD] at h; cases h
  | deep + 1, 0, x, l, h, ⟨_, _, _, _, hn⟩ => hn.elim
  | deep + 1, d + 1, .mk t b ks, l, h, ⟨w, c0, c1, c2, hn⟩ => by
    rw [szF]
    rw [wrD] at h
    split at h
    · cases h
    · split at h
      · split at h
        · cases h
        · cases h
          have := lenE_len b.length
          simp only [List.length_append, List.length_cons]
          omega
      · split at h
        · cases h
        · cases ha : allS (wrD FB deep) ks with
          | none => rw [ha] at h; cases h
          | some bs =>
            rw [ha] at h
            simp only at h
            split at h
            · cases h
            · cases h
              have h1 := lenE_len bs.flatten.length
              have h2 := len_sum FB d deep (fun y l hy hny => wr_size FB deep d y l hy hny) ks bs (kids_nd hn.2.2.2.2.2) ha
              simp only [List.length_append, List.length_cons]
              omega
theorem wr_ct {FB : Int → List Nat → Bool} {deep d : Nat} {t : Int} {b : List Nat} {ks : List Nd} {w : World} {c0 c1 c2 : Value} (hn : NdAt w (d + 1) c0 c1 c2 (.mk t b ks)) (hs : szF (d + 1) (.mk t b ks) ≤ 100000) :
    wrD FB (deep + 1) (.mk t b ks) = (ctD FB deep (.mk t b ks)).map (fun body => t.toNat :: lenE body.length ++ body) := by
  have hs' := hs
  rw [szF] at hs'
  rw [wrD, ctD, tagged_or]
  cases hb : boxedB t with
  | false =>
    cases hp : plainB t with
    | false => simp
    | true =>
      rw [if_neg (by decide), if_pos rfl, if_pos rfl]
      by_cases hk : ks.length = 0 ∧ FB t b = true
      · rw [if_neg (by rintro (h | h | h); exact h hk.1; omega; rw [hk.2] at h; cases h), if_pos ⟨hk.1, rfl, hk.2⟩]; rfl
      · rw [if_pos (by
          by_cases h1 : ks.length = 0
          · refine .inr (.inr ?_)
            cases hf : FB t b with
            | false => rfl
            | true => exact absurd ⟨h1, hf⟩ hk
          · exact .inl h1), if_neg (fun h => hk ⟨h.1, h.2.2⟩)]; rfl
  | true =>
    rw [if_neg (by rw [Bool.or_true]; decide), if_neg (show ¬ (true = false) by decide), if_neg (show ¬ (true = false) by decide)]
    by_cases hb0 : b.length ≠ 0
    · rw [if_pos hb0, if_pos hb0]; rfl
    · rw [if_neg hb0, if_neg hb0]
      cases ha : allS (wrD FB deep) ks with
      | none => rfl
      | some bs =>
        simp only
        have h2 := len_sum FB d deep (fun y l hy hny => wr_size FB deep d y l hy hny) ks bs (kids_nd hn.2.2.2.2.2) ha
        by_cases hso : t = 49 ∧ sortedB bs = false
        · rw [if_pos (.inr hso), if_pos hso]; rfl
        · rw [if_neg (by rintro (h | h); omega; exact hso h), if_neg hso]; rfl
end Go.Proofs.YtlddpjcacnahmaaGreatDoor
