/- Contract of bytes.Join, without a separator. -/
import Derived.Test.YtlddpjcacnahmaaGreatDoorShelf
import Derived.Test.YtlddpjcacnahmaaGreatDoorApp2
import Derived.Test.YtlddpjcacnahmaaGreatDoorPCmp
import Derived.Test.YtlddpjcacnahmaaGreatDoorDRdM
namespace Go.Proofs.YtlddpjcacnahmaaGreatDoor
open Go.RowKit Go.Deep
set_option linter.unusedVariables false

theorem bts_len (l : List Nat) : (bts l).length = l.length := by unfold bts; rw [List.length_map]
theorem bts_get {l : List Nat} {i : Nat} {x : UInt8} (h : (bts l)[i]? = some x) : i < l.length ∧ x = ch (el l i) := by
  have hi : i < (bts l).length := (List.getElem?_eq_some_iff.1 h).1
  rw [bts_len] at hi
  refine ⟨hi, ?_⟩
  rw [el_at hi]
  unfold bts at h
  rw [List.getElem?_map, List.getElem?_eq_getElem hi] at h
  exact (Option.some.inj h).symm
theorem holds_row {w : World} {u : Value} {l : List Nat} (h : Row .u8 256 w u l) : Lib.HoldsBytes w u (bts l) := by
  have hu := h.under
  obtain ⟨a, cap, rfl, h1, h2, h3, h4⟩ := h
  refine ⟨a, cap, by rw [bts_len], fun he => ?_, fun ad he i x hx => ?_⟩
  · cases l with
    | nil => rfl
    | cons x l => obtain ⟨_, _, e, _⟩ := h3 (by simp); rw [he] at e; cases e
  · obtain ⟨hi, rfl⟩ := bts_get hx
    obtain ⟨b, off, e, hc⟩ := h3 (by omega)
    rw [he] at e
    obtain rfl := Option.some.inj e
    rw [Addr.add_lit, hc i hi, ch_nat (el_lt hu (by decide) i)]
theorem fresh_row {B : Nat} {w : World} {v : Value} {l : List Nat} (hu : Under 256 l) (h : Lib.FreshBytes B w v (bts l)) : Row .u8 256 w v l ∧ Tidy v ∧ ValIn (fun k => B ≤ k) v := by
  obtain ⟨g, cap, zs, rfl, hB, h1, h2, h3, h4, h5, h6, _⟩ := h
  rw [bts_len] at h1 h5 ⊢
  refine ⟨⟨_, cap, rfl, h1, h2, fun hl => ⟨g, 0, rfl, fun i hi => ?_⟩, hu⟩, fun n c he => by simp at he, fun q _ hq => ?_⟩
  · rw [Nat.zero_add, h6 i (by omega)]
    have hz : i < zs.length := by omega
    have e : (Lib.bytesOf (zs.take l.length))[i]? = (bts l)[i]? := by rw [h5]
    unfold Lib.bytesOf bts at e
    rw [List.getElem?_map, List.getElem?_map, List.getElem?_take, if_pos hi, List.getElem?_eq_getElem hz, List.getElem?_eq_getElem hi] at e
    have e' := congrArg UInt8.toNat (Option.some.inj e)
    obtain ⟨z0, z1⟩ := h4 _ (List.getElem_mem hz)
    have e2 : (ch (l[i])).toNat = l[i] := ch_nat (hu _ (List.getElem_mem hi))
    rw [e2] at e'
    have e3 : (UInt8.ofNat (zs[i]).toNat).toNat = (zs[i]).toNat := by simp; omega
    rw [e3] at e'
    rw [List.getD_eq_getElem?_getD, List.getElem?_eq_getElem hz, el_at hi]
    show some (Value.int .u8 zs[i]) = _
    rw [show zs[i] = ((l[i] : Nat) : Int) by omega]
  · have e : g = q := by simpa [Value.ownBlock] using hq
    omega
theorem join_flat : ∀ ls : List (List Nat), Lib.join (ls.map bts) [] = bts ls.flatten
  | [] => rfl
  | x :: ls => by
    rw [List.map_cons, Lib.join_cons]
    unfold Lib.joinTail
    have : ∀ r : List (List Nat), ((r.map bts).map (([] : List UInt8) ++ ·)).flatten = bts r.flatten := by
      intro r
      induction r with
      | nil => rfl
      | cons y r ih =>
        simp only [List.map_cons, List.flatten_cons, List.nil_append] at ih ⊢
        rw [ih]
        unfold bts
        rw [List.map_append]
    rw [this ls]
    unfold bts
    rw [List.flatten_cons, List.map_append]
theorem lens_flat (ls : List (List Nat)) : Lib.lens (ls.map bts) = ls.flatten.length := by
  unfold Lib.lens
  induction ls with
  | nil => rfl
  | cons x ls ih =>
    simp only [List.map_cons, List.sum_cons, List.flatten_cons, List.length_append] at ih ⊢
    rw [ih, bts_len]
theorem under_flatT {ls : List (List Nat)} {w : World} {us : List Value} (h : Texts w us ls) : Under 256 ls.flatten := by
  intro x hx
  obtain ⟨l, hl, hxl⟩ := List.mem_flatten.1 hx
  obtain ⟨i, hi, rfl⟩ := List.getElem_of_mem hl
  obtain ⟨u, _, hr, _⟩ := h.2 i hi
  have e : tx ls i = ls[i] := by unfold tx; rw [List.getElem?_eq_getElem hi]; rfl
  rw [e] at hr
  exact hr.under x hxl
/-- what Join tells -/
def JoinE (ls : List (List Nat)) (w : World) (e : Ending) (w' : World) : Prop := (∃ v, e = .returned v ∧ Row .u8 256 w' v ls.flatten ∧ Tidy v ∧ ValIn (fun k => w.heap.size ≤ k) v) ∧ Below w.heap.size w w'
theorem join_any (va : Value) (ls : List (List Nat)) (w : World) (ha : Rows2 w va ls) (hs : ls.flatten.length ≤ 2000000) (hl : ls.length ≤ 2000000) :
    Calls Tryz.prog 153 #[va, .slice none 0 0] w fun e w' => JoinE ls w e w' := by
  obtain ⟨us, a, cap, rfl, h1, h2, ht, h3⟩ := ha.texts
  have hu := under_flatT ht
  match ls, ht, h3, hs, hl, hu, h1, ha with
  | [], ht, h3, hs, hl, hu, h1, ha =>
    refine (Tryz.bytes_Join_none a cap (.slice none 0 0) w).mono ?_
    rintro e w1 ⟨rfl, rfl⟩
    exact ⟨⟨_, rfl, ⟨_, 0, rfl, Nat.le_refl _, Nat.zero_le _, fun h => by simp at h, fun x hx => by simp at hx⟩, fun n c he => by simp at he, fun q hq => by simp [lenV] at hq⟩, keep_alloc _ _⟩
  | [l], ht, h3, hs, hl, hu, h1, ha =>
    obtain ⟨b, off, rfl, hc⟩ := h3 (by simp)
    obtain ⟨u, hu0, hr, htd⟩ := ht.2 0 (by simp)
    have hr : Row .u8 256 w u l := hr
    have hcell := hc 0 u hu0
    have hr' := hr
    obtain ⟨pa, pc, rfl, k1, k2, k3, k4⟩ := hr'
    by_cases hl0 : l.length = 0
    · have : l = [] := List.eq_nil_of_length_eq_zero hl0
      subst this
      refine (Tryz.bytes_Join_one_empty b off cap pa pc (.slice none 0 0) w hcell).mono ?_
      rintro e w1 ⟨rfl, rfl⟩
      exact ⟨⟨_, rfl, Row.nil _ _ _, fun n c he => by simp at he; omega, fun q hq => by simp [lenV] at hq⟩, Below.refl _ _⟩
    · obtain ⟨bl, o2, rfl, hcc⟩ := k3 (by omega)
      have hlen : (bts l).length = l.length := bts_len l
      refine (Tryz.bytes_Join_one b off cap ⟨bl, o2, none⟩ pc (bts l) (.slice none 0 0) w (by rw [hlen]; exact hcell) (fun i x hx => ?_) (by omega) (by simp at hs; omega)).mono ?_
      · obtain ⟨hi, rfl⟩ := bts_get hx
        rw [Addr.add_lit, hcc i hi, ch_nat (el_lt k4 (by decide) i)]
      rintro e w1 ⟨v', rfl, hf, hb⟩
      obtain ⟨r1, r2, r3⟩ := fresh_row (by simpa using hu) hf
      exact ⟨⟨v', rfl, by simpa using r1, r2, r3⟩, hb⟩
  | l0 :: l1 :: ls, ht, h3, hs, hl, hu, h1, ha =>
    obtain ⟨b, off, rfl, hc⟩ := h3 (by simp)
    have hP : Lib.PartsAt w ⟨b, off, none⟩ us ((l0 :: l1 :: ls).map bts) := by
      refine ⟨by rw [List.length_map]; exact ht.1, fun i v hv => by rw [Addr.add_lit]; exact hc i v hv, fun i v l hv hl => ?_⟩
      have hi : i < (l0 :: l1 :: ls).length := by rw [← ht.1]; exact (List.getElem?_eq_some_iff.1 hv).1
      obtain ⟨u, hu0, hr, _⟩ := ht.2 i hi
      rw [hv] at hu0
      obtain rfl := Option.some.inj hu0
      rw [List.getElem?_map, List.getElem?_eq_getElem hi] at hl
      obtain rfl := Option.some.inj hl
      have e : tx (l0 :: l1 :: ls) i = (l0 :: l1 :: ls)[i] := by unfold tx; rw [List.getElem?_eq_getElem hi]; rfl
      rw [e] at hr
      exact holds_row hr
    refine (Tryz.bytes_Join_many b off (l0 :: l1 :: ls).length cap us ((l0 :: l1 :: ls).map bts) (.slice none 0 0) [] w (by rw [List.length_map]) (by simp) hP h1 ⟨none, 0, rfl, fun _ => rfl, fun a he => by cases he⟩ (by omega) (by rw [lens_flat]; simp only [List.length_nil, Nat.zero_mul]; omega)).mono ?_
    rintro e w1 ⟨v', rfl, hf, hb⟩
    rw [join_flat] at hf
    obtain ⟨r1, r2, r3⟩ := fresh_row hu hf
    exact ⟨⟨v', rfl, r1, r2, r3⟩, hb⟩
end Go.Proofs.YtlddpjcacnahmaaGreatDoor
