/- Leaves that sign once: the document's Public. -/
import Derived.Test.YtogiballdmgcpaaGreatDoorLmD
import Derived.Test.YtogiballdmgcpaaGreatDoorLtN
import Derived.Deep.RegionHeld3
namespace Go.Proofs.YtogiballdmgcpaaGreatDoor
open Go.RowKit
set_option linter.unusedVariables false
set_option linter.unusedSimpArgs false

theorem map_take (f : Nat → List Nat) {P i : Nat} (h : i < P) : ((List.range P).map f).take (i + 1) = ((List.range P).map f).take i ++ [f i] := by
  rw [List.take_succ_eq_append_getElem (by simp; exact h)]
  simp
theorem map_len (f : Nat → List Nat) (P i : Nat) (h : i ≤ P) : (((List.range P).map f).take i).length = i := by rw [List.length_take, List.length_map, List.length_range]; omega
/-- where a loop over parts stands -/
def PbL (w : World) (P : Nat) (f : Nat → List Nat) (vo vi : Value) (wr : World) : Prop := ∃ i : Nat, i ≤ P ∧ vi = .int .i64 (i : Int) ∧ GrT wr w.heap.size vo (((List.range P).map f).take i) ∧ Below w.heap.size w wr
theorem cell_one0 (w : World) (u : Value) (t : TypeId) : ∀ j x, [u][j]? = some x → (w.alloc (.cells #[u] t)).cell? ((⟨w.heap.size, 0, none⟩ : Addr).add j) = some x := fun j x h => by
  have : j = 0 := by have := (List.getElem?_eq_some_iff.1 h).1; simp at this; exact this
  subst this
  rw [Addr.add_lit, World.cell?_alloc_at _ _ _ _ rfl]
  simpa using h
theorem own_grT {w w' : World} {B n : Nat} {vo : Value} {us : List Value} (h : w.ownsRow B 23 1 vo n us) (hb : Below w.heap.size w w') : w'.ownsRow B 23 1 vo n us := by
  refine h.kept (row := none) ⟨hb.os, hb.tape, hb.output, hb.size, fun k hk _ => hb.block k hk⟩ ?_
  cases hvo : vo.ownBlock with
  | none => exact .inl rfl
  | some q => exact .inr (by simp)
set_option maxHeartbeats 8000000 in
set_option maxRecDepth 100000 in
theorem rpub_1 (id seed : List Nat) (q : Nat) (idv sv : Value) (w : World) (hi : Row .u8 256 w idv id) (ti : Tidy idv) (hs : Row .u8 256 w sv seed) (ts : Tidy sv) (hq : q < 4294967296) (hl : id.length = 16) (hsl : seed.length = 32) :
    Calls Tryz.prog 78 #[.int .i64 1, idv, .int .u32 (q : Int), sv] w fun e w' => ∃ v, e = .returned (.tuple #[v, .int .i64 0]) ∧ Row .u8 256 w' v (pubH shaL (preL id q) 1 265 seed) ∧ New w.heap.size v ∧ Below w.heap.size w w' := by
  have hw := rwrong_any 1 id seed idv sv w hi hs
  rw [show wrgC 1 id.length seed.length = 0 by rw [hl, hsl]; decide] at hw
  obtain ⟨ia, ic, rfl, _⟩ := hi.opens hl
  obtain ⟨sa, sc, rfl, _⟩ := hs.opens hsl
  have hk := fun y => rkind_ok y Kd.k1
  have hp := fun y (hb : Below w.heap.size w y) (i : Nat) (h : i < 265) => rpart_any id seed q i _ _ y (hi.below hb) ti (hs.below hb) ts hq (by omega) (by omega)
  have hc := fun y (hb : Below w.heap.size w y) (i : Nat) (h : i < 265) yv z (rz : Row .u8 256 y yv z) (tz : Tidy yv) (hz : z.length = 32) => rchain_any id z q i 0 1 _ yv y (hi.below hb) ti rz tz hq (by omega) (by decide) hz (by omega)
  have hX : ∀ i, (lmX shaL (preL id q) i 255 seed).length = 32 := fun i => shaL_len _
  have hY : ∀ i, (chN shaL (preL id q) i 0 1 (lmX shaL (preL id q) i 255 seed)).length = 32 := fun i => chN_len shaL_len i 0 _ (hX i) _
  have hfl : (endsP shaL (preL id q) 1 265 seed).flatten.length = 32 * 265 := by
    rw [flat_32_len _ (fun p hp => ?_)]
    · simp [endsP]
    · unfold endsP at hp
      obtain ⟨i, _, rfl⟩ := List.mem_map.1 hp
      exact hY i
  have hkey := fun y ev (hb : Below w.heap.size w y) (r : Rows2 y ev (endsP shaL (preL id q) 1 265 seed)) => rkey_any id _ q _ ev y (hi.below hb) ti r hq (by omega) (by omega)
  unfold pubH
  unfold endsP at hkey ⊢
  clear hfl
  generalize shaL = HH at *
  obtain ⟨i0, hi0, hz0, hz1, hz2⟩ := info_text
  obtain ⟨f, hf⟩ : ∃ f : Nat → List Nat, f = fun i => chN HH (preL id q) i 0 1 (lmX HH (preL id q) i 255 seed) := ⟨_, rfl⟩
  rw [← hf] at hkey ⊢
  have hfi : ∀ i, chN HH (preL id q) i 0 1 (lmX HH (preL id q) i 255 seed) = f i := fun i => by rw [hf]
  have h0 : PbL w 265 f (.slice none 0 0) (.int .i64 0) w := ⟨0, Nat.zero_le _, rfl, GrT.nil _ _, Below.refl _ _⟩
  have H0 := hide h0
  have HF := hide hf
  have HH0 := hide (And.intro hX (And.intro hY hfi))
  have HC := hide hc
  have HPp := hide hp
  have HKy := hide hkey
  clear h0 hf hX hY hfi hi ti hs ts hc hp hkey
  go_enter Tryz.func78, Tryz.ntmps78
  go_wp2_with (first
    | (go_at_call 83; refine hw.mono ?_; rintro e yy ⟨rfl, hy⟩; obtain rfl := hy.symm)
    | (go_at_call 77; refine (hk _).mono ?_; rintro e yy ⟨rfl, hy⟩; obtain rfl := hy.symm)
    | fail)
  go_loopw [14, 15] (fun vo vi wr => PbL w 265 f vo vi wr) (fun _ vi _ => 265 - (intOf vi).toNat)
  case atStart => exact H0.out
  case round =>
    obtain ⟨i, hi', rfl, hG, hbr⟩ := hrel
    clear H0
    rename World => wr
    obtain ⟨oa, oc, rfl⟩ := hG.slice
    rw [map_len f 265 i hi'] at *
    by_cases hlt : i < 265
    · have hii : (i : Int) < 265 := by omega
      have hbd : Below wr.heap.size wr wr.drew := (Below.refl _ _).drew
      have hpi := HPp.out wr.drew (hbr.trans (hbd.mono hbr.size)) i hlt
      obtain ⟨us, hown, htx, hap⟩ := hG.ex
      rw [map_len f 265 i hi'] at hown
      obtain ⟨I, hI⟩ : ∃ I : Nat, I = i + 1 := ⟨_, rfl⟩
      have e_I : (i : Int) + 1 = (I : Int) := by omega
      have s_I : IntKind.i64.wrap (I : Int) = (I : Int) := by rw [IntKind.wrap_i64]; omega
      have HK := hide (And.intro hI (And.intro hbr (And.intro hlt (And.intro hbd (And.intro hown (And.intro htx hap))))))
      have hcc := fun y (hb : Below wr.heap.size wr y) yv (rz : Row .u8 256 y yv (lmX HH (preL id q) i 255 seed)) (tz : Tidy yv) => HC.out y (hbr.trans (hb.mono hbr.size)) i hlt yv _ rz tz (HH0.out.1 i)
      clear hI hbr hlt hown htx hap hG hbd
      go_wp2
      go_region_held3 (fun _ => True) (exact trivial) (first
        | (go_at_call 84; refine hpi.mono ?_; rintro e z1 ⟨v1, rfl, r1, n1, hb1⟩; have t1 := new_ntidy r1 (by have := HH0.out.1 i; omega); have hbz := keep_trans HK.out.2.2.2.1 hb1; obtain ⟨a1, c1, rfl, _⟩ := r1.opens (HH0.out.1 i))
        | (go_at_call 87; refine (hcc _ hbz _ r1 t1).mono ?_; rintro e z2 ⟨v2, rfl, r2, t2, n2, hb2⟩; rw [HH0.out.2.2] at r2; obtain ⟨a2, c2, rfl, _⟩ := r2.opens (N := 32) (by rw [← HH0.out.2.2]; exact HH0.out.2.1 i))
        | (refine step_append_lies _ (by rfl) _ _ 48 (by rfl) w.heap.size 23 i0 (.slice none 0 0) 1 24 Tryz.underlying48 hi0 hz0 hz1 hz2 rfl (by decide) _ i us (by rfl) (own_grT HK.out.2.2.2.2.1 (keep_trans (keep_trans hbz hb2) (keep_alloc z2 (.cells #[.slice a2 32 c2] 23)))) ⟨z2.heap.size, 0, none⟩ 1 1 [.slice a2 32 c2] (by rfl) rfl (cell_one0 _ _ _) (by simp [Value.oneCell']) (by decide) (by unfold maxLen; have := HK.out.2.2.1; omega) (by have := HK.out.2.2.1; omega) (by have h1 := HK.out.2.1.size; have h2 := (keep_trans hbz hb2).size; rw [World.size_alloc]; omega) _ rfl ?_; intro g7 cap7 w7 how7 hg7 hl7 hs7))
      go_wp2
      obtain ⟨hI, hbr, hlt, hbd, hown, htx, hap⟩ := HK.out
      obtain ⟨hX, hY, hfi⟩ := HH0.out
      have hb2z := keep_trans hbz hb2
      have hb3z := keep_trans hb2z (keep_alloc z2 (.cells #[.slice a2 32 c2] 23))
      have hnew : New wr.heap.size (.slice a2 32 c2) := by
        rcases n2 with h | h
        · exact h.mono hbz.size
        · rw [h]; exact n1.mono hbd.size
      have r2' := r2.below (keep_alloc z2 (.cells #[.slice a2 32 c2] 23))
      have hfl : (f i).length = 32 := by rw [← hfi]; exact hY i
      have aU := apart_new hown r2' (by rw [hfl]; decide) hnew
      have hgr := GrT.push (ls := ((List.range 265).map f).take i) (x := f i) (us := us) (vo := .slice oa i oc) (htx.below hb3z) (fun u hu => (hap u hu).below hb3z.size) r2' t2 aU (by rw [map_len f 265 i (by omega)]; exact how7) hg7 hl7
      rw [← map_take f hlt] at hgr
      rw [map_len f 265 i (by omega)] at hgr
      refine ⟨⟨i + 1, by omega, vint (by omega), hgr, (hbr.trans (hb3z.mono hbr.size)).grown hg7 (Nat.le_trans hbr.size hb3z.size) (fun k hk => (hown.lt k hk).1)⟩, by simp [intOf]; omega⟩
    · obtain rfl : i = 265 := by omega
      rw [List.take_of_length_le (by simp)] at hG
      have hky := HKy.out wr _ hbr hG.rows
      have HK := hide hbr
      clear hbr hG
      go_wp2_with (first | (go_at_call 103; refine hky.mono ?_; rintro e w9 ⟨v9, rfl, r9, n9, hb9⟩) | fail)
      go_ret2
      exact ⟨_, rfl, r9, n9.mono HK.out.size, HK.out.trans (hb9.mono HK.out.size)⟩
set_option maxHeartbeats 8000000 in
set_option maxRecDepth 100000 in
theorem rpub_2 (id seed : List Nat) (q : Nat) (idv sv : Value) (w : World) (hi : Row .u8 256 w idv id) (ti : Tidy idv) (hs : Row .u8 256 w sv seed) (ts : Tidy sv) (hq : q < 4294967296) (hl : id.length = 16) (hsl : seed.length = 32) :
    Calls Tryz.prog 78 #[.int .i64 2, idv, .int .u32 (q : Int), sv] w fun e w' => ∃ v, e = .returned (.tuple #[v, .int .i64 0]) ∧ Row .u8 256 w' v (pubH shaL (preL id q) 3 133 seed) ∧ New w.heap.size v ∧ Below w.heap.size w w' := by
  have hw := rwrong_any 2 id seed idv sv w hi hs
  rw [show wrgC 2 id.length seed.length = 0 by rw [hl, hsl]; decide] at hw
  obtain ⟨ia, ic, rfl, _⟩ := hi.opens hl
  obtain ⟨sa, sc, rfl, _⟩ := hs.opens hsl
  have hk := fun y => rkind_ok y Kd.k2
  have hp := fun y (hb : Below w.heap.size w y) (i : Nat) (h : i < 133) => rpart_any id seed q i _ _ y (hi.below hb) ti (hs.below hb) ts hq (by omega) (by omega)
  have hc := fun y (hb : Below w.heap.size w y) (i : Nat) (h : i < 133) yv z (rz : Row .u8 256 y yv z) (tz : Tidy yv) (hz : z.length = 32) => rchain_any id z q i 0 3 _ yv y (hi.below hb) ti rz tz hq (by omega) (by decide) hz (by omega)
  have hX : ∀ i, (lmX shaL (preL id q) i 255 seed).length = 32 := fun i => shaL_len _
  have hY : ∀ i, (chN shaL (preL id q) i 0 3 (lmX shaL (preL id q) i 255 seed)).length = 32 := fun i => chN_len shaL_len i 0 _ (hX i) _
  have hfl : (endsP shaL (preL id q) 3 133 seed).flatten.length = 32 * 133 := by
    rw [flat_32_len _ (fun p hp => ?_)]
    · simp [endsP]
    · unfold endsP at hp
      obtain ⟨i, _, rfl⟩ := List.mem_map.1 hp
      exact hY i
  have hkey := fun y ev (hb : Below w.heap.size w y) (r : Rows2 y ev (endsP shaL (preL id q) 3 133 seed)) => rkey_any id _ q _ ev y (hi.below hb) ti r hq (by omega) (by omega)
  unfold pubH
  unfold endsP at hkey ⊢
  clear hfl
  generalize shaL = HH at *
  obtain ⟨i0, hi0, hz0, hz1, hz2⟩ := info_text
  obtain ⟨f, hf⟩ : ∃ f : Nat → List Nat, f = fun i => chN HH (preL id q) i 0 3 (lmX HH (preL id q) i 255 seed) := ⟨_, rfl⟩
  rw [← hf] at hkey ⊢
  have hfi : ∀ i, chN HH (preL id q) i 0 3 (lmX HH (preL id q) i 255 seed) = f i := fun i => by rw [hf]
  have h0 : PbL w 133 f (.slice none 0 0) (.int .i64 0) w := ⟨0, Nat.zero_le _, rfl, GrT.nil _ _, Below.refl _ _⟩
  have H0 := hide h0
  have HF := hide hf
  have HH0 := hide (And.intro hX (And.intro hY hfi))
  have HC := hide hc
  have HPp := hide hp
  have HKy := hide hkey
  clear h0 hf hX hY hfi hi ti hs ts hc hp hkey
  go_enter Tryz.func78, Tryz.ntmps78
  go_wp2_with (first
    | (go_at_call 83; refine hw.mono ?_; rintro e yy ⟨rfl, hy⟩; obtain rfl := hy.symm)
    | (go_at_call 77; refine (hk _).mono ?_; rintro e yy ⟨rfl, hy⟩; obtain rfl := hy.symm)
    | fail)
  go_loopw [14, 15] (fun vo vi wr => PbL w 133 f vo vi wr) (fun _ vi _ => 133 - (intOf vi).toNat)
  case atStart => exact H0.out
  case round =>
    obtain ⟨i, hi', rfl, hG, hbr⟩ := hrel
    clear H0
    rename World => wr
    obtain ⟨oa, oc, rfl⟩ := hG.slice
    rw [map_len f 133 i hi'] at *
    by_cases hlt : i < 133
    · have hii : (i : Int) < 133 := by omega
      have hbd : Below wr.heap.size wr wr.drew := (Below.refl _ _).drew
      have hpi := HPp.out wr.drew (hbr.trans (hbd.mono hbr.size)) i hlt
      obtain ⟨us, hown, htx, hap⟩ := hG.ex
      rw [map_len f 133 i hi'] at hown
      obtain ⟨I, hI⟩ : ∃ I : Nat, I = i + 1 := ⟨_, rfl⟩
      have e_I : (i : Int) + 1 = (I : Int) := by omega
      have s_I : IntKind.i64.wrap (I : Int) = (I : Int) := by rw [IntKind.wrap_i64]; omega
      have HK := hide (And.intro hI (And.intro hbr (And.intro hlt (And.intro hbd (And.intro hown (And.intro htx hap))))))
      have hcc := fun y (hb : Below wr.heap.size wr y) yv (rz : Row .u8 256 y yv (lmX HH (preL id q) i 255 seed)) (tz : Tidy yv) => HC.out y (hbr.trans (hb.mono hbr.size)) i hlt yv _ rz tz (HH0.out.1 i)
      clear hI hbr hlt hown htx hap hG hbd
      go_wp2
      go_region_held3 (fun _ => True) (exact trivial) (first
        | (go_at_call 84; refine hpi.mono ?_; rintro e z1 ⟨v1, rfl, r1, n1, hb1⟩; have t1 := new_ntidy r1 (by have := HH0.out.1 i; omega); have hbz := keep_trans HK.out.2.2.2.1 hb1; obtain ⟨a1, c1, rfl, _⟩ := r1.opens (HH0.out.1 i))
        | (go_at_call 87; refine (hcc _ hbz _ r1 t1).mono ?_; rintro e z2 ⟨v2, rfl, r2, t2, n2, hb2⟩; rw [HH0.out.2.2] at r2; obtain ⟨a2, c2, rfl, _⟩ := r2.opens (N := 32) (by rw [← HH0.out.2.2]; exact HH0.out.2.1 i))
        | (refine step_append_lies _ (by rfl) _ _ 48 (by rfl) w.heap.size 23 i0 (.slice none 0 0) 1 24 Tryz.underlying48 hi0 hz0 hz1 hz2 rfl (by decide) _ i us (by rfl) (own_grT HK.out.2.2.2.2.1 (keep_trans (keep_trans hbz hb2) (keep_alloc z2 (.cells #[.slice a2 32 c2] 23)))) ⟨z2.heap.size, 0, none⟩ 1 1 [.slice a2 32 c2] (by rfl) rfl (cell_one0 _ _ _) (by simp [Value.oneCell']) (by decide) (by unfold maxLen; have := HK.out.2.2.1; omega) (by have := HK.out.2.2.1; omega) (by have h1 := HK.out.2.1.size; have h2 := (keep_trans hbz hb2).size; rw [World.size_alloc]; omega) _ rfl ?_; intro g7 cap7 w7 how7 hg7 hl7 hs7))
      go_wp2
      obtain ⟨hI, hbr, hlt, hbd, hown, htx, hap⟩ := HK.out
      obtain ⟨hX, hY, hfi⟩ := HH0.out
      have hb2z := keep_trans hbz hb2
      have hb3z := keep_trans hb2z (keep_alloc z2 (.cells #[.slice a2 32 c2] 23))
      have hnew : New wr.heap.size (.slice a2 32 c2) := by
        rcases n2 with h | h
        · exact h.mono hbz.size
        · rw [h]; exact n1.mono hbd.size
      have r2' := r2.below (keep_alloc z2 (.cells #[.slice a2 32 c2] 23))
      have hfl : (f i).length = 32 := by rw [← hfi]; exact hY i
      have aU := apart_new hown r2' (by rw [hfl]; decide) hnew
      have hgr := GrT.push (ls := ((List.range 133).map f).take i) (x := f i) (us := us) (vo := .slice oa i oc) (htx.below hb3z) (fun u hu => (hap u hu).below hb3z.size) r2' t2 aU (by rw [map_len f 133 i (by omega)]; exact how7) hg7 hl7
      rw [← map_take f hlt] at hgr
      rw [map_len f 133 i (by omega)] at hgr
      refine ⟨⟨i + 1, by omega, vint (by omega), hgr, (hbr.trans (hb3z.mono hbr.size)).grown hg7 (Nat.le_trans hbr.size hb3z.size) (fun k hk => (hown.lt k hk).1)⟩, by simp [intOf]; omega⟩
    · obtain rfl : i = 133 := by omega
      rw [List.take_of_length_le (by simp)] at hG
      have hky := HKy.out wr _ hbr hG.rows
      have HK := hide hbr
      clear hbr hG
      go_wp2_with (first | (go_at_call 103; refine hky.mono ?_; rintro e w9 ⟨v9, rfl, r9, n9, hb9⟩) | fail)
      go_ret2
      exact ⟨_, rfl, r9, n9.mono HK.out.size, HK.out.trans (hb9.mono HK.out.size)⟩
set_option maxHeartbeats 8000000 in
set_option maxRecDepth 100000 in
theorem rpub_4 (id seed : List Nat) (q : Nat) (idv sv : Value) (w : World) (hi : Row .u8 256 w idv id) (ti : Tidy idv) (hs : Row .u8 256 w sv seed) (ts : Tidy sv) (hq : q < 4294967296) (hl : id.length = 16) (hsl : seed.length = 32) :
    Calls Tryz.prog 78 #[.int .i64 4, idv, .int .u32 (q : Int), sv] w fun e w' => ∃ v, e = .returned (.tuple #[v, .int .i64 0]) ∧ Row .u8 256 w' v (pubH shaL (preL id q) 15 67 seed) ∧ New w.heap.size v ∧ Below w.heap.size w w' := by
  have hw := rwrong_any 4 id seed idv sv w hi hs
  rw [show wrgC 4 id.length seed.length = 0 by rw [hl, hsl]; decide] at hw
  obtain ⟨ia, ic, rfl, _⟩ := hi.opens hl
  obtain ⟨sa, sc, rfl, _⟩ := hs.opens hsl
  have hk := fun y => rkind_ok y Kd.k4
  have hp := fun y (hb : Below w.heap.size w y) (i : Nat) (h : i < 67) => rpart_any id seed q i _ _ y (hi.below hb) ti (hs.below hb) ts hq (by omega) (by omega)
  have hc := fun y (hb : Below w.heap.size w y) (i : Nat) (h : i < 67) yv z (rz : Row .u8 256 y yv z) (tz : Tidy yv) (hz : z.length = 32) => rchain_any id z q i 0 15 _ yv y (hi.below hb) ti rz tz hq (by omega) (by decide) hz (by omega)
  have hX : ∀ i, (lmX shaL (preL id q) i 255 seed).length = 32 := fun i => shaL_len _
  have hY : ∀ i, (chN shaL (preL id q) i 0 15 (lmX shaL (preL id q) i 255 seed)).length = 32 := fun i => chN_len shaL_len i 0 _ (hX i) _
  have hfl : (endsP shaL (preL id q) 15 67 seed).flatten.length = 32 * 67 := by
    rw [flat_32_len _ (fun p hp => ?_)]
    · simp [endsP]
    · unfold endsP at hp
      obtain ⟨i, _, rfl⟩ := List.mem_map.1 hp
      exact hY i
  have hkey := fun y ev (hb : Below w.heap.size w y) (r : Rows2 y ev (endsP shaL (preL id q) 15 67 seed)) => rkey_any id _ q _ ev y (hi.below hb) ti r hq (by omega) (by omega)
  unfold pubH
  unfold endsP at hkey ⊢
  clear hfl
  generalize shaL = HH at *
  obtain ⟨i0, hi0, hz0, hz1, hz2⟩ := info_text
  obtain ⟨f, hf⟩ : ∃ f : Nat → List Nat, f = fun i => chN HH (preL id q) i 0 15 (lmX HH (preL id q) i 255 seed) := ⟨_, rfl⟩
  rw [← hf] at hkey ⊢
  have hfi : ∀ i, chN HH (preL id q) i 0 15 (lmX HH (preL id q) i 255 seed) = f i := fun i => by rw [hf]
  have h0 : PbL w 67 f (.slice none 0 0) (.int .i64 0) w := ⟨0, Nat.zero_le _, rfl, GrT.nil _ _, Below.refl _ _⟩
  have H0 := hide h0
  have HF := hide hf
  have HH0 := hide (And.intro hX (And.intro hY hfi))
  have HC := hide hc
  have HPp := hide hp
  have HKy := hide hkey
  clear h0 hf hX hY hfi hi ti hs ts hc hp hkey
  go_enter Tryz.func78, Tryz.ntmps78
  go_wp2_with (first
    | (go_at_call 83; refine hw.mono ?_; rintro e yy ⟨rfl, hy⟩; obtain rfl := hy.symm)
    | (go_at_call 77; refine (hk _).mono ?_; rintro e yy ⟨rfl, hy⟩; obtain rfl := hy.symm)
    | fail)
  go_loopw [14, 15] (fun vo vi wr => PbL w 67 f vo vi wr) (fun _ vi _ => 67 - (intOf vi).toNat)
  case atStart => exact H0.out
  case round =>
    obtain ⟨i, hi', rfl, hG, hbr⟩ := hrel
    clear H0
    rename World => wr
    obtain ⟨oa, oc, rfl⟩ := hG.slice
    rw [map_len f 67 i hi'] at *
    by_cases hlt : i < 67
    · have hii : (i : Int) < 67 := by omega
      have hbd : Below wr.heap.size wr wr.drew := (Below.refl _ _).drew
      have hpi := HPp.out wr.drew (hbr.trans (hbd.mono hbr.size)) i hlt
      obtain ⟨us, hown, htx, hap⟩ := hG.ex
      rw [map_len f 67 i hi'] at hown
      obtain ⟨I, hI⟩ : ∃ I : Nat, I = i + 1 := ⟨_, rfl⟩
      have e_I : (i : Int) + 1 = (I : Int) := by omega
      have s_I : IntKind.i64.wrap (I : Int) = (I : Int) := by rw [IntKind.wrap_i64]; omega
      have HK := hide (And.intro hI (And.intro hbr (And.intro hlt (And.intro hbd (And.intro hown (And.intro htx hap))))))
      have hcc := fun y (hb : Below wr.heap.size wr y) yv (rz : Row .u8 256 y yv (lmX HH (preL id q) i 255 seed)) (tz : Tidy yv) => HC.out y (hbr.trans (hb.mono hbr.size)) i hlt yv _ rz tz (HH0.out.1 i)
      clear hI hbr hlt hown htx hap hG hbd
      go_wp2
      go_region_held3 (fun _ => True) (exact trivial) (first
        | (go_at_call 84; refine hpi.mono ?_; rintro e z1 ⟨v1, rfl, r1, n1, hb1⟩; have t1 := new_ntidy r1 (by have := HH0.out.1 i; omega); have hbz := keep_trans HK.out.2.2.2.1 hb1; obtain ⟨a1, c1, rfl, _⟩ := r1.opens (HH0.out.1 i))
        | (go_at_call 87; refine (hcc _ hbz _ r1 t1).mono ?_; rintro e z2 ⟨v2, rfl, r2, t2, n2, hb2⟩; rw [HH0.out.2.2] at r2; obtain ⟨a2, c2, rfl, _⟩ := r2.opens (N := 32) (by rw [← HH0.out.2.2]; exact HH0.out.2.1 i))
        | (refine step_append_lies _ (by rfl) _ _ 48 (by rfl) w.heap.size 23 i0 (.slice none 0 0) 1 24 Tryz.underlying48 hi0 hz0 hz1 hz2 rfl (by decide) _ i us (by rfl) (own_grT HK.out.2.2.2.2.1 (keep_trans (keep_trans hbz hb2) (keep_alloc z2 (.cells #[.slice a2 32 c2] 23)))) ⟨z2.heap.size, 0, none⟩ 1 1 [.slice a2 32 c2] (by rfl) rfl (cell_one0 _ _ _) (by simp [Value.oneCell']) (by decide) (by unfold maxLen; have := HK.out.2.2.1; omega) (by have := HK.out.2.2.1; omega) (by have h1 := HK.out.2.1.size; have h2 := (keep_trans hbz hb2).size; rw [World.size_alloc]; omega) _ rfl ?_; intro g7 cap7 w7 how7 hg7 hl7 hs7))
      go_wp2
      obtain ⟨hI, hbr, hlt, hbd, hown, htx, hap⟩ := HK.out
      obtain ⟨hX, hY, hfi⟩ := HH0.out
      have hb2z := keep_trans hbz hb2
      have hb3z := keep_trans hb2z (keep_alloc z2 (.cells #[.slice a2 32 c2] 23))
      have hnew : New wr.heap.size (.slice a2 32 c2) := by
        rcases n2 with h | h
        · exact h.mono hbz.size
        · rw [h]; exact n1.mono hbd.size
      have r2' := r2.below (keep_alloc z2 (.cells #[.slice a2 32 c2] 23))
      have hfl : (f i).length = 32 := by rw [← hfi]; exact hY i
      have aU := apart_new hown r2' (by rw [hfl]; decide) hnew
      have hgr := GrT.push (ls := ((List.range 67).map f).take i) (x := f i) (us := us) (vo := .slice oa i oc) (htx.below hb3z) (fun u hu => (hap u hu).below hb3z.size) r2' t2 aU (by rw [map_len f 67 i (by omega)]; exact how7) hg7 hl7
      rw [← map_take f hlt] at hgr
      rw [map_len f 67 i (by omega)] at hgr
      refine ⟨⟨i + 1, by omega, vint (by omega), hgr, (hbr.trans (hb3z.mono hbr.size)).grown hg7 (Nat.le_trans hbr.size hb3z.size) (fun k hk => (hown.lt k hk).1)⟩, by simp [intOf]; omega⟩
    · obtain rfl : i = 67 := by omega
      rw [List.take_of_length_le (by simp)] at hG
      have hky := HKy.out wr _ hbr hG.rows
      have HK := hide hbr
      clear hbr hG
      go_wp2_with (first | (go_at_call 103; refine hky.mono ?_; rintro e w9 ⟨v9, rfl, r9, n9, hb9⟩) | fail)
      go_ret2
      exact ⟨_, rfl, r9, n9.mono HK.out.size, HK.out.trans (hb9.mono HK.out.size)⟩
end Go.Proofs.YtogiballdmgcpaaGreatDoor

/- Trees of leaves that sign once: the document's Public. -/
namespace Go.Proofs.YtogiballdmgcpaaGreatDoor
open Go.RowKit
set_option linter.unusedVariables false
set_option linter.unusedSimpArgs false

/-- a leaf's key -/
def pkT (k n m : Nat) (id seed : List Nat) (q : Nat) : List Nat := pubH shaL (preL id q) (2 ^ k - 1) (n + m) seed
theorem pkT_len (k n m : Nat) (id seed : List Nat) (q : Nat) : (pkT k n m id seed q).length = 32 := shaL_len _
theorem rpubK {k n m s c : Nat} (hk : Kd k n m s c) (h8 : k ≠ 8) (id seed : List Nat) (q : Nat) (idv sv : Value) (w : World) (hi : Row .u8 256 w idv id) (ti : Tidy idv) (hs : Row .u8 256 w sv seed) (ts : Tidy sv) (hq : q < 4294967296) (hl : id.length = 16) (hsl : seed.length = 32) :
    Calls Tryz.prog 78 #[.int .i64 (k : Int), idv, .int .u32 (q : Int), sv] w fun e w' => ∃ v, e = .returned (.tuple #[v, .int .i64 0]) ∧ Row .u8 256 w' v (pkT k n m id seed q) ∧ New w.heap.size v ∧ Below w.heap.size w w' := by
  cases hk
  · exact rpub_1 id seed q idv sv w hi ti hs ts hq hl hsl
  · exact rpub_2 id seed q idv sv w hi ti hs ts hq hl hsl
  · exact rpub_4 id seed q idv sv w hi ti hs ts hq hl hsl
  · exact absurd rfl h8
/-- the knots of a tree -/
def knT (k n m h : Nat) (id seed : List Nat) : Nat → List Nat := knA (ovL id) (fun i => lfS id i (pkT k n m id seed (i - 2 ^ h))) h
theorem knT_len (k n m h : Nat) (id seed : List Nat) (i : Nat) : (knT k n m h id seed i).length = 32 := knA_32 (fun _ _ _ => shaL_len _) (fun _ => shaL_len _) _ _
theorem pow_le_1024 {h : Nat} (hh : h ≤ 10) : 2 ^ h ≤ 1024 := by
  have := Nat.pow_le_pow_right (n := 2) (by decide) hh
  simpa using this
theorem rknotsK {k n m s c : Nat} (hk : Kd k n m s c) (h8 : k ≠ 8) (h : Nat) (hh : h ≤ 10) (id seed : List Nat) (idv sv : Value) (w : World) (hi : Row .u8 256 w idv id) (ti : Tidy idv) (hs : Row .u8 256 w sv seed) (ts : Tidy sv) (hl : id.length = 16) (hsl : seed.length = 32) :
    Calls Tryz.prog 48 #[.agg #[.int .i64 (h : Int), .int .i64 (k : Int)], idv, sv] w fun e w' => ∃ H, e = .returned (.slice (some ⟨H, 0, none⟩) (2 * 2 ^ h) (2 * 2 ^ h)) ∧ KnS w' H (2 * 2 ^ h) 1 (knT k n m h id seed) ∧ w.heap.size ≤ H ∧ Below w.heap.size w w' := by
  have hp := pow_le_1024 hh
  exact rknots_any h (2 ^ h) (k : Int) id seed idv sv w (pkT k n m id seed) hi ti hs rfl hp hh hl (fun q => pkT_len _ _ _ _ _ q) (fun y q hb hq => rpubK hk h8 id seed q idv sv y (hi.below hb) ti (hs.below hb) ts (by omega) hl hsl)
end Go.Proofs.YtogiballdmgcpaaGreatDoor
