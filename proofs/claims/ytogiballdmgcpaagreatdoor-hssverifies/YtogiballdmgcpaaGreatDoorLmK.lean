/- Leaves that sign once: the document's Candidate. -/
import Derived.Test.YtogiballdmgcpaaGreatDoorLtV2
import Derived.Test.YtogiballdmgcpaaGreatDoorBase
namespace Go.Proofs.YtogiballdmgcpaaGreatDoor
open Go.RowKit
set_option linter.unusedVariables false
set_option linter.unusedSimpArgs false

set_option maxHeartbeats 8000000 in
set_option maxRecDepth 100000 in
theorem rcnd_1 (id text sig : List Nat) (q : Nat) (idv sv tv : Value) (w : World) (hi : Row .u8 256 w idv id) (ti : Tidy idv) (ht : Row .u8 256 w tv text) (tt : Tidy tv) (hs : Row .u8 256 w sv sig) (hq : q < 4294967296) (hl : id.length = 16) (htl : text.length ≤ 10000) (hsl : sig.length = 36 + 32 * 265) (hcode : numL (sig.take 4) = 1) :
    Calls Tryz.prog 69 #[.int .i64 1, idv, .int .u32 (q : Int), tv, sv] w fun e w' => ∃ v, e = .returned (.tuple #[v, .int .i64 0]) ∧ Row .u8 256 w' v (keyH shaL (preL id q) (endsC shaL (preL id q) 1 (digsL 1 256 9 7 (digH shaL (preL id q) ((sig.drop 4).take 32) text)) sig)) ∧ New w.heap.size v ∧ Below w.heap.size w w' := by
  obtain ⟨ia, ic, rfl, _⟩ := hi.opens hl
  obtain ⟨ta, tc, rfl, _⟩ := ht.opens rfl
  obtain ⟨sa, sc, rfl, lc1, lc2, ho⟩ := hs.opens hsl
  obtain ⟨sb, so, rfl, _⟩ := ho (by omega)
  have r4 : Row .u8 256 w (.slice (some ⟨sb, so, none⟩) 4 sc) (sig.take 4) := hs.cut (M := 4) (by omega)
  have hnm := fun y (e : y = w) => rnum_any _ _ y (e ▸ r4)
  rw [hcode] at hnm
  have rC : Row .u8 256 w (.slice (some ⟨sb, so + 4, none⟩) 32 (sc - 4)) ((sig.drop 4).take 32) := hs.mid (i := 4) (j := 36) (by decide) (by omega)
  have hCl : ((sig.drop 4).take 32).length = 32 := by rw [List.length_take, List.length_drop]; omega
  have tC : Tidy (.slice (some ⟨sb, so + 4, none⟩) 32 (sc - 4)) := fun n c e => by cases e
  have hk := fun y => rkind_ok y Kd.k1
  have hz := fun y => rsize_ok y Kd.k1
  have rP : ∀ i, i < 265 → Row .u8 256 w (.slice (some ⟨sb, so + (36 + 32 * i), none⟩) 32 (sc - (36 + 32 * i))) ((sig.drop (36 + 32 * i)).take 32) := fun i h => by
    have := hs.mid (i := 36 + 32 * i) (j := 68 + 32 * i) (by omega) (by omega)
    rw [show 68 + 32 * i - (36 + 32 * i) = 32 by omega] at this
    exact this
  have hPl : ∀ i, i < 265 → ((sig.drop (36 + 32 * i)).take 32).length = 32 := fun i h => by rw [List.length_take, List.length_drop]; omega
  have hdg := rdgst_any id ((sig.drop 4).take 32) text q _ _ _ w hi ti rC tC ht tt hq (by omega)
  have hc := fun y (hb : Below w.heap.size w y) (i D : Nat) (h : i < 265) (hD : D ≤ 1) yv z (rz : Row .u8 256 y yv z) (tz : Tidy yv) (hzl : z.length = 32) => rchain_any id z q i D (1 - D) _ yv y (hi.below hb) ti rz tz hq (by omega) (by omega) hzl (by omega)
  obtain ⟨Dg, hDg⟩ : ∃ d, d = digH shaL (preL id q) ((sig.drop 4).take 32) text := ⟨_, rfl⟩
  have hDgl : Dg.length = 32 := by rw [hDg]; exact shaL_len _
  rw [← hDg] at hdg ⊢
  obtain ⟨ds, hdse⟩ : ∃ l, l = digsL 1 256 9 7 Dg := ⟨_, rfl⟩
  have hdsl : ds.length = 265 := by rw [hdse]; exact digs_len _
  have hdsb : ∀ i, el ds i ≤ 1 := fun i => by rw [hdse]; exact el_le_of (K := 1) (digs_lt _) i
  have hds' := fun y dv (r : Row .u8 256 y dv Dg) (td : Tidy dv) => rdigs_1 Dg dv y r td hDgl
  rw [← hdse] at hds' ⊢
  have hY : ∀ i, i < 265 → (chN shaL (preL id q) i (el ds i) (1 - el ds i) ((sig.drop (36 + 32 * i)).take 32)).length = 32 := fun i h => chN_len shaL_len i _ _ (hPl i h) _
  have hfl : (endsC shaL (preL id q) 1 ds sig).flatten.length = 32 * 265 := by
    rw [flat_32_len _ (fun p hp => ?_)]
    · simp [endsC, hdsl]
    · unfold endsC at hp
      obtain ⟨i, hi, rfl⟩ := List.mem_map.1 hp
      exact hY i (by rw [hdsl] at hi; simpa using hi)
  have hkey := fun y ev (hb : Below w.heap.size w y) (r : Rows2 y ev (endsC shaL (preL id q) 1 ds sig)) => rkey_any id _ q _ ev y (hi.below hb) ti r hq (by omega) (by omega)
  unfold endsC at hkey ⊢
  rw [hdsl] at hkey ⊢
  clear hDg hdse hfl hcode
  generalize shaL = HH at *
  obtain ⟨i0, hi0, hz0, hz1, hz2⟩ := info_text
  obtain ⟨f, hf⟩ : ∃ f : Nat → List Nat, f = fun i => chN HH (preL id q) i (el ds i) (1 - el ds i) ((sig.drop (36 + 32 * i)).take 32) := ⟨_, rfl⟩
  rw [← hf] at hkey ⊢
  have hfi : ∀ i, chN HH (preL id q) i (el ds i) (1 - el ds i) ((sig.drop (36 + 32 * i)).take 32) = f i := fun i => by rw [hf]
  have h4c : (4 : Int) ≤ (sc : Int) := by omega
  have h36c : (36 : Int) ≤ (sc : Int) := by omega
  have hn4 : ¬ sc = 4 := by omega
  have HH0 := hide (And.intro rP (And.intro hPl (And.intro hY (And.intro hfi (And.intro hdsb (And.intro hdsl (And.intro lc1 hDgl)))))))
  have HC := hide hc
  have HKy := hide hkey
  have HD := hide hDgl
  clear hf rP hPl hY hfi hi ti ht tt hs hc hkey hdsb ho r4 rC hCl tC lc1 hDgl
  go_enter Tryz.func69, Tryz.ntmps69
  go_wp2_with (first
    | (go_at_call 77; refine (hk _).mono ?_; rintro e yy ⟨rfl, hy⟩; obtain rfl := hy.symm)
    | (go_at_call 67; refine (hz _).mono ?_; rintro e yy ⟨rfl, hy⟩; obtain rfl := hy.symm)
    | (go_at_call 36; refine (hnm _ rfl).mono ?_; rintro e yy ⟨rfl, hy⟩; obtain rfl := hy.symm)
    | (go_at_call 86; refine hdg.mono ?_; rintro e w2 ⟨v2, rfl, r2, n2, hb2⟩; have t2 := new_ntidy r2 (by have := HD.out; omega); obtain ⟨a2, c2, rfl, _⟩ := r2.opens HD.out)
    | (go_at_call 85; refine (hds' _ _ r2 t2).mono ?_; rintro e w3 ⟨v3, rfl, o3, hb3⟩; have r3 := o3.row; obtain ⟨a3, c3, rfl, _, _, ho3⟩ := r3.opens hdsl)
    | fail)
  have hb23 := keep_trans hb2 hb3
  obtain ⟨b3, f3, rfl, hc3⟩ := ho3 (by decide)
  have h0 : PbL w3 265 f (.slice none 0 0) (.int .i64 0) w3 := ⟨0, Nat.zero_le _, rfl, GrT.nil _ _, Below.refl _ _⟩
  have H0 := hide h0
  have H14 := hide (And.intro hb23 hc3)
  clear h0 hb23 hc3 ho3 r3 o3
  go_loopw [17, 18] (fun vo vi wr => PbL w3 265 f vo vi wr) (fun _ vi _ => 265 - (intOf vi).toNat)
  case atStart => exact H0.out
  case round =>
    obtain ⟨i, hi', rfl, hG, hbr⟩ := hrel
    clear H0
    rename World => wr
    obtain ⟨oa, oc, rfl⟩ := hG.slice
    rw [map_len f 265 i hi'] at hG ⊢
    obtain ⟨hb14, hc4⟩ := H14.out
    have hbw := hb14.trans (hbr.mono hb14.size)
    by_cases hlt : i < 265
    · have hii : (i : Int) < 265 := by omega
      have z_i : (0 : Int) ≤ (i : Int) := Int.natCast_nonneg _
      obtain ⟨rP, hPl, hY, hfi0, hdsb, _, lc1, _⟩ := HH0.out
      have hbd : Below wr.heap.size wr wr.drew := (Below.refl _ _).drew
      obtain ⟨us, hown, htx, hap⟩ := hG.ex
      rw [map_len f 265 i hi'] at hown
      obtain ⟨I, hI⟩ : ∃ I : Nat, I = i + 1 := ⟨_, rfl⟩
      have e_I : (i : Int) + 1 = (I : Int) := by omega
      have s_I : IntKind.i64.wrap (I : Int) = (I : Int) := by rw [IntKind.wrap_i64]; omega
      obtain ⟨A, hA⟩ : ∃ A : Nat, A = 32 * i := ⟨_, rfl⟩
      obtain ⟨B, hB⟩ : ∃ B : Nat, B = 36 + A := ⟨_, rfl⟩
      obtain ⟨E, hE⟩ : ∃ E : Nat, E = 68 + A := ⟨_, rfl⟩
      have e_A : (32 : Int) * (i : Int) = (A : Int) := by omega
      have s_A : IntKind.i64.wrap (A : Int) = (A : Int) := by rw [IntKind.wrap_i64]; omega
      have e_B : (36 : Int) + (A : Int) = (B : Int) := by omega
      have s_B : IntKind.i64.wrap (B : Int) = (B : Int) := by rw [IntKind.wrap_i64]; omega
      have e_E : (68 : Int) + (A : Int) = (E : Int) := by omega
      have s_E : IntKind.i64.wrap (E : Int) = (E : Int) := by rw [IntKind.wrap_i64]; omega
      have z_B : (0 : Int) ≤ (B : Int) := Int.natCast_nonneg _
      have z_E : (0 : Int) ≤ (E : Int) := Int.natCast_nonneg _
      have l_BE : (B : Int) ≤ (E : Int) := by omega
      have l_Ec : (E : Int) ≤ (sc : Int) := by omega
      have d_EB : E - B = 32 := by omega
      have n_cB : ¬ sc = B := by omega
      have rPi := rP i hlt
      rw [show 36 + 32 * i = B by omega] at rPi
      have hPi := hPl i hlt
      rw [show 36 + 32 * i = B by omega] at hPi
      obtain ⟨D, hD⟩ : ∃ D, D = el ds i := ⟨_, rfl⟩
      have hDW : D ≤ 1 := by rw [hD]; exact hdsb i
      have s_D : IntKind.i64.wrap (D : Int) = (D : Int) := by rw [IntKind.wrap_i64]; omega
      have ci := keep_cell (hc4 i hlt) hbr
      rw [← hD] at ci
      have hfi : chN HH (preL id q) i D (1 - D) ((sig.drop B).take 32) = f i := by rw [hD, ← hfi0, show 36 + 32 * i = B by omega]
      have hcc := fun y (hb : Below wr.heap.size wr y) => HC.out y (hbw.trans (hb.mono hbw.size)) i D hlt hDW _ _ (rPi.below (hbw.trans (hb.mono hbw.size))) (fun n c e => by cases e) hPi
      rw [hfi, show D + (1 - D) = 1 by omega] at hcc
      have hS0 : wr.drew.cell? ⟨b3, f3 + i, none⟩ = some (.int .u32 (D : Int)) := ci
      have hb3w : b3 < w3.heap.size := World.block_lt_of_cell? _ _ (hc4 i hlt)
      have HK := hide (And.intro hI (And.intro hbr (And.intro hlt (And.intro hbd (And.intro hown (And.intro htx (And.intro hap (And.intro rPi (And.intro hb3w (And.intro hD hbw))))))))))
      have HA := hide (And.intro hA (And.intro hB hE))
      clear hI hbr hlt hown htx hap hG hbd hb3w hD hfi hbw hb14 hc4 hDW rP hPl hY hfi0 hdsb lc1 hA hB hE rPi hPi
      go_wp2
      go_region_held3 (fun y => y.cell? ⟨b3, f3 + i, none⟩ = some (.int .u32 (D : Int))) (first | exact hS0 | exact hS2 | exact hS3 | exact hS7) (first
        | (go_at_call 87; refine (hcc _ HK.out.2.2.2.1).mono ?_; rintro e z2 ⟨v2, rfl, r2, t2, n2, hb2⟩; have hbz := keep_trans HK.out.2.2.2.1 hb2; obtain ⟨a2, c2, rfl, _⟩ := r2.opens (N := 32) (by rw [← HH0.out.2.2.2.1]; exact HH0.out.2.2.1 i HK.out.2.2.1); have hS2 := keep_cell ci hbz; have hS3 := keep_cell ci (keep_trans hbz (keep_alloc z2 (.cells #[.slice a2 32 c2] 23))))
        | (refine step_append_lies _ (by rfl) _ _ 48 (by rfl) w3.heap.size 23 i0 (.slice none 0 0) 1 24 Tryz.underlying48 hi0 hz0 hz1 hz2 rfl (by decide) _ i us (by rfl) (own_grT HK.out.2.2.2.2.1 (keep_trans hbz (keep_alloc z2 (.cells #[.slice a2 32 c2] 23)))) ⟨z2.heap.size, 0, none⟩ 1 1 [.slice a2 32 c2] (by rfl) rfl (cell_one0 _ _ _) (by simp [Value.oneCell']) (by decide) (by unfold maxLen; have := HK.out.2.2.1; omega) (by have := HK.out.2.2.1; omega) (by have h1 := HK.out.2.1.size; have h2 := hbz.size; rw [World.size_alloc]; omega) _ rfl ?_; intro g7 cap7 w7 how7 hg7 hl7 hs7; have hS7 := hg7.cell hS3 (fun e => by have h1 := (HK.out.2.2.2.2.1.lt b3 e.symm).1; have h2 := HK.out.2.2.2.2.2.2.2.2.1; omega)))
      all_goals
        go_wp2
        obtain ⟨hI, hbr, hlt, hbd, hown, htx, hap, rPi, hb3w, hD, hbw⟩ := HK.out
        obtain ⟨rP, hPl, hY, hfi, hdsb, hdsl', _, _⟩ := HH0.out
        have hb3z := keep_trans hbz (keep_alloc z2 (.cells #[.slice a2 32 c2] 23))
        have r2' := r2.below (keep_alloc z2 (.cells #[.slice a2 32 c2] 23))
        have hfl : (f i).length = 32 := by rw [← hfi]; exact hY i hlt
        have aU : Apart1 (z2.alloc (.cells #[.slice a2 32 c2] 23)) (.slice oa i oc) (.slice a2 32 c2) := by
          rcases n2 with h | h
          · exact apart_new hown r2' (by rw [hfl]; decide) (h.mono hbd.size)
          · have h32 : 0 < ((sig.drop B).take 32).length := by
              have := hPl i hlt
              rw [show 36 + 32 * i = B by have := HA.out; omega] at this
              omega
            have e := apart_old hown rPi h32 H14.out.1.size hbw.size
            rw [← h] at e
            exact e.below hb3z.size
        have hgr := GrT.push (ls := ((List.range 265).map f).take i) (x := f i) (us := us) (vo := .slice oa i oc) (htx.below hb3z) (fun u hu => (hap u hu).below hb3z.size) r2' t2 aU (by rw [map_len f 265 i (by omega)]; exact how7) hg7 hl7
        rw [← map_take f hlt] at hgr
        rw [map_len f 265 i (by omega)] at hgr
        refine ⟨⟨i + 1, by omega, vint (by omega), hgr, (hbr.trans (hb3z.mono hbr.size)).grown hg7 (Nat.le_trans hbr.size hb3z.size) (fun k hk => (hown.lt k hk).1)⟩, by simp [intOf]; omega⟩
    · obtain rfl : i = 265 := by omega
      rw [List.take_of_length_le (by simp)] at hG
      have hky := HKy.out wr _ hbw hG.rows
      have HK := hide hbw
      clear hbw hG hbr hb14 hc4
      go_wp2_with (first | (go_at_call 103; refine hky.mono ?_; rintro e w9 ⟨v9, rfl, r9, n9, hb9⟩) | fail)
      go_ret2
      exact ⟨_, rfl, r9, n9.mono HK.out.size, HK.out.trans (hb9.mono HK.out.size)⟩
set_option maxHeartbeats 8000000 in
set_option maxRecDepth 100000 in
theorem rcnd_2 (id text sig : List Nat) (q : Nat) (idv sv tv : Value) (w : World) (hi : Row .u8 256 w idv id) (ti : Tidy idv) (ht : Row .u8 256 w tv text) (tt : Tidy tv) (hs : Row .u8 256 w sv sig) (hq : q < 4294967296) (hl : id.length = 16) (htl : text.length ≤ 10000) (hsl : sig.length = 36 + 32 * 133) (hcode : numL (sig.take 4) = 2) :
    Calls Tryz.prog 69 #[.int .i64 2, idv, .int .u32 (q : Int), tv, sv] w fun e w' => ∃ v, e = .returned (.tuple #[v, .int .i64 0]) ∧ Row .u8 256 w' v (keyH shaL (preL id q) (endsC shaL (preL id q) 3 (digsL 2 128 5 6 (digH shaL (preL id q) ((sig.drop 4).take 32) text)) sig)) ∧ New w.heap.size v ∧ Below w.heap.size w w' := by
  obtain ⟨ia, ic, rfl, _⟩ := hi.opens hl
  obtain ⟨ta, tc, rfl, _⟩ := ht.opens rfl
  obtain ⟨sa, sc, rfl, lc1, lc2, ho⟩ := hs.opens hsl
  obtain ⟨sb, so, rfl, _⟩ := ho (by omega)
  have r4 : Row .u8 256 w (.slice (some ⟨sb, so, none⟩) 4 sc) (sig.take 4) := hs.cut (M := 4) (by omega)
  have hnm := fun y (e : y = w) => rnum_any _ _ y (e ▸ r4)
  rw [hcode] at hnm
  have rC : Row .u8 256 w (.slice (some ⟨sb, so + 4, none⟩) 32 (sc - 4)) ((sig.drop 4).take 32) := hs.mid (i := 4) (j := 36) (by decide) (by omega)
  have hCl : ((sig.drop 4).take 32).length = 32 := by rw [List.length_take, List.length_drop]; omega
  have tC : Tidy (.slice (some ⟨sb, so + 4, none⟩) 32 (sc - 4)) := fun n c e => by cases e
  have hk := fun y => rkind_ok y Kd.k2
  have hz := fun y => rsize_ok y Kd.k2
  have rP : ∀ i, i < 133 → Row .u8 256 w (.slice (some ⟨sb, so + (36 + 32 * i), none⟩) 32 (sc - (36 + 32 * i))) ((sig.drop (36 + 32 * i)).take 32) := fun i h => by
    have := hs.mid (i := 36 + 32 * i) (j := 68 + 32 * i) (by omega) (by omega)
    rw [show 68 + 32 * i - (36 + 32 * i) = 32 by omega] at this
    exact this
  have hPl : ∀ i, i < 133 → ((sig.drop (36 + 32 * i)).take 32).length = 32 := fun i h => by rw [List.length_take, List.length_drop]; omega
  have hdg := rdgst_any id ((sig.drop 4).take 32) text q _ _ _ w hi ti rC tC ht tt hq (by omega)
  have hc := fun y (hb : Below w.heap.size w y) (i D : Nat) (h : i < 133) (hD : D ≤ 3) yv z (rz : Row .u8 256 y yv z) (tz : Tidy yv) (hzl : z.length = 32) => rchain_any id z q i D (3 - D) _ yv y (hi.below hb) ti rz tz hq (by omega) (by omega) hzl (by omega)
  obtain ⟨Dg, hDg⟩ : ∃ d, d = digH shaL (preL id q) ((sig.drop 4).take 32) text := ⟨_, rfl⟩
  have hDgl : Dg.length = 32 := by rw [hDg]; exact shaL_len _
  rw [← hDg] at hdg ⊢
  obtain ⟨ds, hdse⟩ : ∃ l, l = digsL 2 128 5 6 Dg := ⟨_, rfl⟩
  have hdsl : ds.length = 133 := by rw [hdse]; exact digs_len _
  have hdsb : ∀ i, el ds i ≤ 3 := fun i => by rw [hdse]; exact el_le_of (K := 2) (digs_lt _) i
  have hds' := fun y dv (r : Row .u8 256 y dv Dg) (td : Tidy dv) => rdigs_2 Dg dv y r td hDgl
  rw [← hdse] at hds' ⊢
  have hY : ∀ i, i < 133 → (chN shaL (preL id q) i (el ds i) (3 - el ds i) ((sig.drop (36 + 32 * i)).take 32)).length = 32 := fun i h => chN_len shaL_len i _ _ (hPl i h) _
  have hfl : (endsC shaL (preL id q) 3 ds sig).flatten.length = 32 * 133 := by
    rw [flat_32_len _ (fun p hp => ?_)]
    · simp [endsC, hdsl]
    · unfold endsC at hp
      obtain ⟨i, hi, rfl⟩ := List.mem_map.1 hp
      exact hY i (by rw [hdsl] at hi; simpa using hi)
  have hkey := fun y ev (hb : Below w.heap.size w y) (r : Rows2 y ev (endsC shaL (preL id q) 3 ds sig)) => rkey_any id _ q _ ev y (hi.below hb) ti r hq (by omega) (by omega)
  unfold endsC at hkey ⊢
  rw [hdsl] at hkey ⊢
  clear hDg hdse hfl hcode
  generalize shaL = HH at *
  obtain ⟨i0, hi0, hz0, hz1, hz2⟩ := info_text
  obtain ⟨f, hf⟩ : ∃ f : Nat → List Nat, f = fun i => chN HH (preL id q) i (el ds i) (3 - el ds i) ((sig.drop (36 + 32 * i)).take 32) := ⟨_, rfl⟩
  rw [← hf] at hkey ⊢
  have hfi : ∀ i, chN HH (preL id q) i (el ds i) (3 - el ds i) ((sig.drop (36 + 32 * i)).take 32) = f i := fun i => by rw [hf]
  have h4c : (4 : Int) ≤ (sc : Int) := by omega
  have h36c : (36 : Int) ≤ (sc : Int) := by omega
  have hn4 : ¬ sc = 4 := by omega
  have HH0 := hide (And.intro rP (And.intro hPl (And.intro hY (And.intro hfi (And.intro hdsb (And.intro hdsl (And.intro lc1 hDgl)))))))
  have HC := hide hc
  have HKy := hide hkey
  have HD := hide hDgl
  clear hf rP hPl hY hfi hi ti ht tt hs hc hkey hdsb ho r4 rC hCl tC lc1 hDgl
  go_enter Tryz.func69, Tryz.ntmps69
  go_wp2_with (first
    | (go_at_call 77; refine (hk _).mono ?_; rintro e yy ⟨rfl, hy⟩; obtain rfl := hy.symm)
    | (go_at_call 67; refine (hz _).mono ?_; rintro e yy ⟨rfl, hy⟩; obtain rfl := hy.symm)
    | (go_at_call 36; refine (hnm _ rfl).mono ?_; rintro e yy ⟨rfl, hy⟩; obtain rfl := hy.symm)
    | (go_at_call 86; refine hdg.mono ?_; rintro e w2 ⟨v2, rfl, r2, n2, hb2⟩; have t2 := new_ntidy r2 (by have := HD.out; omega); obtain ⟨a2, c2, rfl, _⟩ := r2.opens HD.out)
    | (go_at_call 85; refine (hds' _ _ r2 t2).mono ?_; rintro e w3 ⟨v3, rfl, o3, hb3⟩; have r3 := o3.row; obtain ⟨a3, c3, rfl, _, _, ho3⟩ := r3.opens hdsl)
    | fail)
  have hb23 := keep_trans hb2 hb3
  obtain ⟨b3, f3, rfl, hc3⟩ := ho3 (by decide)
  have h0 : PbL w3 133 f (.slice none 0 0) (.int .i64 0) w3 := ⟨0, Nat.zero_le _, rfl, GrT.nil _ _, Below.refl _ _⟩
  have H0 := hide h0
  have H14 := hide (And.intro hb23 hc3)
  clear h0 hb23 hc3 ho3 r3 o3
  go_loopw [17, 18] (fun vo vi wr => PbL w3 133 f vo vi wr) (fun _ vi _ => 133 - (intOf vi).toNat)
  case atStart => exact H0.out
  case round =>
    obtain ⟨i, hi', rfl, hG, hbr⟩ := hrel
    clear H0
    rename World => wr
    obtain ⟨oa, oc, rfl⟩ := hG.slice
    rw [map_len f 133 i hi'] at hG ⊢
    obtain ⟨hb14, hc4⟩ := H14.out
    have hbw := hb14.trans (hbr.mono hb14.size)
    by_cases hlt : i < 133
    · have hii : (i : Int) < 133 := by omega
      have z_i : (0 : Int) ≤ (i : Int) := Int.natCast_nonneg _
      obtain ⟨rP, hPl, hY, hfi0, hdsb, _, lc1, _⟩ := HH0.out
      have hbd : Below wr.heap.size wr wr.drew := (Below.refl _ _).drew
      obtain ⟨us, hown, htx, hap⟩ := hG.ex
      rw [map_len f 133 i hi'] at hown
      obtain ⟨I, hI⟩ : ∃ I : Nat, I = i + 1 := ⟨_, rfl⟩
      have e_I : (i : Int) + 1 = (I : Int) := by omega
      have s_I : IntKind.i64.wrap (I : Int) = (I : Int) := by rw [IntKind.wrap_i64]; omega
      obtain ⟨A, hA⟩ : ∃ A : Nat, A = 32 * i := ⟨_, rfl⟩
      obtain ⟨B, hB⟩ : ∃ B : Nat, B = 36 + A := ⟨_, rfl⟩
      obtain ⟨E, hE⟩ : ∃ E : Nat, E = 68 + A := ⟨_, rfl⟩
      have e_A : (32 : Int) * (i : Int) = (A : Int) := by omega
      have s_A : IntKind.i64.wrap (A : Int) = (A : Int) := by rw [IntKind.wrap_i64]; omega
      have e_B : (36 : Int) + (A : Int) = (B : Int) := by omega
      have s_B : IntKind.i64.wrap (B : Int) = (B : Int) := by rw [IntKind.wrap_i64]; omega
      have e_E : (68 : Int) + (A : Int) = (E : Int) := by omega
      have s_E : IntKind.i64.wrap (E : Int) = (E : Int) := by rw [IntKind.wrap_i64]; omega
      have z_B : (0 : Int) ≤ (B : Int) := Int.natCast_nonneg _
      have z_E : (0 : Int) ≤ (E : Int) := Int.natCast_nonneg _
      have l_BE : (B : Int) ≤ (E : Int) := by omega
      have l_Ec : (E : Int) ≤ (sc : Int) := by omega
      have d_EB : E - B = 32 := by omega
      have n_cB : ¬ sc = B := by omega
      have rPi := rP i hlt
      rw [show 36 + 32 * i = B by omega] at rPi
      have hPi := hPl i hlt
      rw [show 36 + 32 * i = B by omega] at hPi
      obtain ⟨D, hD⟩ : ∃ D, D = el ds i := ⟨_, rfl⟩
      have hDW : D ≤ 3 := by rw [hD]; exact hdsb i
      have s_D : IntKind.i64.wrap (D : Int) = (D : Int) := by rw [IntKind.wrap_i64]; omega
      have ci := keep_cell (hc4 i hlt) hbr
      rw [← hD] at ci
      have hfi : chN HH (preL id q) i D (3 - D) ((sig.drop B).take 32) = f i := by rw [hD, ← hfi0, show 36 + 32 * i = B by omega]
      have hcc := fun y (hb : Below wr.heap.size wr y) => HC.out y (hbw.trans (hb.mono hbw.size)) i D hlt hDW _ _ (rPi.below (hbw.trans (hb.mono hbw.size))) (fun n c e => by cases e) hPi
      rw [hfi, show D + (3 - D) = 3 by omega] at hcc
      have hS0 : wr.drew.cell? ⟨b3, f3 + i, none⟩ = some (.int .u32 (D : Int)) := ci
      have hb3w : b3 < w3.heap.size := World.block_lt_of_cell? _ _ (hc4 i hlt)
      have HK := hide (And.intro hI (And.intro hbr (And.intro hlt (And.intro hbd (And.intro hown (And.intro htx (And.intro hap (And.intro rPi (And.intro hb3w (And.intro hD hbw))))))))))
      have HA := hide (And.intro hA (And.intro hB hE))
      clear hI hbr hlt hown htx hap hG hbd hb3w hD hfi hbw hb14 hc4 hDW rP hPl hY hfi0 hdsb lc1 hA hB hE rPi hPi
      go_wp2
      go_region_held3 (fun y => y.cell? ⟨b3, f3 + i, none⟩ = some (.int .u32 (D : Int))) (first | exact hS0 | exact hS2 | exact hS3 | exact hS7) (first
        | (go_at_call 87; refine (hcc _ HK.out.2.2.2.1).mono ?_; rintro e z2 ⟨v2, rfl, r2, t2, n2, hb2⟩; have hbz := keep_trans HK.out.2.2.2.1 hb2; obtain ⟨a2, c2, rfl, _⟩ := r2.opens (N := 32) (by rw [← HH0.out.2.2.2.1]; exact HH0.out.2.2.1 i HK.out.2.2.1); have hS2 := keep_cell ci hbz; have hS3 := keep_cell ci (keep_trans hbz (keep_alloc z2 (.cells #[.slice a2 32 c2] 23))))
        | (refine step_append_lies _ (by rfl) _ _ 48 (by rfl) w3.heap.size 23 i0 (.slice none 0 0) 1 24 Tryz.underlying48 hi0 hz0 hz1 hz2 rfl (by decide) _ i us (by rfl) (own_grT HK.out.2.2.2.2.1 (keep_trans hbz (keep_alloc z2 (.cells #[.slice a2 32 c2] 23)))) ⟨z2.heap.size, 0, none⟩ 1 1 [.slice a2 32 c2] (by rfl) rfl (cell_one0 _ _ _) (by simp [Value.oneCell']) (by decide) (by unfold maxLen; have := HK.out.2.2.1; omega) (by have := HK.out.2.2.1; omega) (by have h1 := HK.out.2.1.size; have h2 := hbz.size; rw [World.size_alloc]; omega) _ rfl ?_; intro g7 cap7 w7 how7 hg7 hl7 hs7; have hS7 := hg7.cell hS3 (fun e => by have h1 := (HK.out.2.2.2.2.1.lt b3 e.symm).1; have h2 := HK.out.2.2.2.2.2.2.2.2.1; omega)))
      all_goals
        go_wp2
        obtain ⟨hI, hbr, hlt, hbd, hown, htx, hap, rPi, hb3w, hD, hbw⟩ := HK.out
        obtain ⟨rP, hPl, hY, hfi, hdsb, hdsl', _, _⟩ := HH0.out
        have hb3z := keep_trans hbz (keep_alloc z2 (.cells #[.slice a2 32 c2] 23))
        have r2' := r2.below (keep_alloc z2 (.cells #[.slice a2 32 c2] 23))
        have hfl : (f i).length = 32 := by rw [← hfi]; exact hY i hlt
        have aU : Apart1 (z2.alloc (.cells #[.slice a2 32 c2] 23)) (.slice oa i oc) (.slice a2 32 c2) := by
          rcases n2 with h | h
          · exact apart_new hown r2' (by rw [hfl]; decide) (h.mono hbd.size)
          · have h32 : 0 < ((sig.drop B).take 32).length := by
              have := hPl i hlt
              rw [show 36 + 32 * i = B by have := HA.out; omega] at this
              omega
            have e := apart_old hown rPi h32 H14.out.1.size hbw.size
            rw [← h] at e
            exact e.below hb3z.size
        have hgr := GrT.push (ls := ((List.range 133).map f).take i) (x := f i) (us := us) (vo := .slice oa i oc) (htx.below hb3z) (fun u hu => (hap u hu).below hb3z.size) r2' t2 aU (by rw [map_len f 133 i (by omega)]; exact how7) hg7 hl7
        rw [← map_take f hlt] at hgr
        rw [map_len f 133 i (by omega)] at hgr
        refine ⟨⟨i + 1, by omega, vint (by omega), hgr, (hbr.trans (hb3z.mono hbr.size)).grown hg7 (Nat.le_trans hbr.size hb3z.size) (fun k hk => (hown.lt k hk).1)⟩, by simp [intOf]; omega⟩
    · obtain rfl : i = 133 := by omega
      rw [List.take_of_length_le (by simp)] at hG
      have hky := HKy.out wr _ hbw hG.rows
      have HK := hide hbw
      clear hbw hG hbr hb14 hc4
      go_wp2_with (first | (go_at_call 103; refine hky.mono ?_; rintro e w9 ⟨v9, rfl, r9, n9, hb9⟩) | fail)
      go_ret2
      exact ⟨_, rfl, r9, n9.mono HK.out.size, HK.out.trans (hb9.mono HK.out.size)⟩
set_option maxHeartbeats 8000000 in
set_option maxRecDepth 100000 in
theorem rcnd_4 (id text sig : List Nat) (q : Nat) (idv sv tv : Value) (w : World) (hi : Row .u8 256 w idv id) (ti : Tidy idv) (ht : Row .u8 256 w tv text) (tt : Tidy tv) (hs : Row .u8 256 w sv sig) (hq : q < 4294967296) (hl : id.length = 16) (htl : text.length ≤ 10000) (hsl : sig.length = 36 + 32 * 67) (hcode : numL (sig.take 4) = 3) :
    Calls Tryz.prog 69 #[.int .i64 4, idv, .int .u32 (q : Int), tv, sv] w fun e w' => ∃ v, e = .returned (.tuple #[v, .int .i64 0]) ∧ Row .u8 256 w' v (keyH shaL (preL id q) (endsC shaL (preL id q) 15 (digsL 4 64 3 4 (digH shaL (preL id q) ((sig.drop 4).take 32) text)) sig)) ∧ New w.heap.size v ∧ Below w.heap.size w w' := by
  obtain ⟨ia, ic, rfl, _⟩ := hi.opens hl
  obtain ⟨ta, tc, rfl, _⟩ := ht.opens rfl
  obtain ⟨sa, sc, rfl, lc1, lc2, ho⟩ := hs.opens hsl
  obtain ⟨sb, so, rfl, _⟩ := ho (by omega)
  have r4 : Row .u8 256 w (.slice (some ⟨sb, so, none⟩) 4 sc) (sig.take 4) := hs.cut (M := 4) (by omega)
  have hnm := fun y (e : y = w) => rnum_any _ _ y (e ▸ r4)
  rw [hcode] at hnm
  have rC : Row .u8 256 w (.slice (some ⟨sb, so + 4, none⟩) 32 (sc - 4)) ((sig.drop 4).take 32) := hs.mid (i := 4) (j := 36) (by decide) (by omega)
  have hCl : ((sig.drop 4).take 32).length = 32 := by rw [List.length_take, List.length_drop]; omega
  have tC : Tidy (.slice (some ⟨sb, so + 4, none⟩) 32 (sc - 4)) := fun n c e => by cases e
  have hk := fun y => rkind_ok y Kd.k4
  have hz := fun y => rsize_ok y Kd.k4
  have rP : ∀ i, i < 67 → Row .u8 256 w (.slice (some ⟨sb, so + (36 + 32 * i), none⟩) 32 (sc - (36 + 32 * i))) ((sig.drop (36 + 32 * i)).take 32) := fun i h => by
    have := hs.mid (i := 36 + 32 * i) (j := 68 + 32 * i) (by omega) (by omega)
    rw [show 68 + 32 * i - (36 + 32 * i) = 32 by omega] at this
    exact this
  have hPl : ∀ i, i < 67 → ((sig.drop (36 + 32 * i)).take 32).length = 32 := fun i h => by rw [List.length_take, List.length_drop]; omega
  have hdg := rdgst_any id ((sig.drop 4).take 32) text q _ _ _ w hi ti rC tC ht tt hq (by omega)
  have hc := fun y (hb : Below w.heap.size w y) (i D : Nat) (h : i < 67) (hD : D ≤ 15) yv z (rz : Row .u8 256 y yv z) (tz : Tidy yv) (hzl : z.length = 32) => rchain_any id z q i D (15 - D) _ yv y (hi.below hb) ti rz tz hq (by omega) (by omega) hzl (by omega)
  obtain ⟨Dg, hDg⟩ : ∃ d, d = digH shaL (preL id q) ((sig.drop 4).take 32) text := ⟨_, rfl⟩
  have hDgl : Dg.length = 32 := by rw [hDg]; exact shaL_len _
  rw [← hDg] at hdg ⊢
  obtain ⟨ds, hdse⟩ : ∃ l, l = digsL 4 64 3 4 Dg := ⟨_, rfl⟩
  have hdsl : ds.length = 67 := by rw [hdse]; exact digs_len _
  have hdsb : ∀ i, el ds i ≤ 15 := fun i => by rw [hdse]; exact el_le_of (K := 4) (digs_lt _) i
  have hds' := fun y dv (r : Row .u8 256 y dv Dg) (td : Tidy dv) => rdigs_4 Dg dv y r td hDgl
  rw [← hdse] at hds' ⊢
  have hY : ∀ i, i < 67 → (chN shaL (preL id q) i (el ds i) (15 - el ds i) ((sig.drop (36 + 32 * i)).take 32)).length = 32 := fun i h => chN_len shaL_len i _ _ (hPl i h) _
  have hfl : (endsC shaL (preL id q) 15 ds sig).flatten.length = 32 * 67 := by
    rw [flat_32_len _ (fun p hp => ?_)]
    · simp [endsC, hdsl]
    · unfold endsC at hp
      obtain ⟨i, hi, rfl⟩ := List.mem_map.1 hp
      exact hY i (by rw [hdsl] at hi; simpa using hi)
  have hkey := fun y ev (hb : Below w.heap.size w y) (r : Rows2 y ev (endsC shaL (preL id q) 15 ds sig)) => rkey_any id _ q _ ev y (hi.below hb) ti r hq (by omega) (by omega)
  unfold endsC at hkey ⊢
  rw [hdsl] at hkey ⊢
  clear hDg hdse hfl hcode
  generalize shaL = HH at *
  obtain ⟨i0, hi0, hz0, hz1, hz2⟩ := info_text
  obtain ⟨f, hf⟩ : ∃ f : Nat → List Nat, f = fun i => chN HH (preL id q) i (el ds i) (15 - el ds i) ((sig.drop (36 + 32 * i)).take 32) := ⟨_, rfl⟩
  rw [← hf] at hkey ⊢
  have hfi : ∀ i, chN HH (preL id q) i (el ds i) (15 - el ds i) ((sig.drop (36 + 32 * i)).take 32) = f i := fun i => by rw [hf]
  have h4c : (4 : Int) ≤ (sc : Int) := by omega
  have h36c : (36 : Int) ≤ (sc : Int) := by omega
  have hn4 : ¬ sc = 4 := by omega
  have HH0 := hide (And.intro rP (And.intro hPl (And.intro hY (And.intro hfi (And.intro hdsb (And.intro hdsl (And.intro lc1 hDgl)))))))
  have HC := hide hc
  have HKy := hide hkey
  have HD := hide hDgl
  clear hf rP hPl hY hfi hi ti ht tt hs hc hkey hdsb ho r4 rC hCl tC lc1 hDgl
  go_enter Tryz.func69, Tryz.ntmps69
  go_wp2_with (first
    | (go_at_call 77; refine (hk _).mono ?_; rintro e yy ⟨rfl, hy⟩; obtain rfl := hy.symm)
    | (go_at_call 67; refine (hz _).mono ?_; rintro e yy ⟨rfl, hy⟩; obtain rfl := hy.symm)
    | (go_at_call 36; refine (hnm _ rfl).mono ?_; rintro e yy ⟨rfl, hy⟩; obtain rfl := hy.symm)
    | (go_at_call 86; refine hdg.mono ?_; rintro e w2 ⟨v2, rfl, r2, n2, hb2⟩; have t2 := new_ntidy r2 (by have := HD.out; omega); obtain ⟨a2, c2, rfl, _⟩ := r2.opens HD.out)
    | (go_at_call 85; refine (hds' _ _ r2 t2).mono ?_; rintro e w3 ⟨v3, rfl, o3, hb3⟩; have r3 := o3.row; obtain ⟨a3, c3, rfl, _, _, ho3⟩ := r3.opens hdsl)
    | fail)
  have hb23 := keep_trans hb2 hb3
  obtain ⟨b3, f3, rfl, hc3⟩ := ho3 (by decide)
  have h0 : PbL w3 67 f (.slice none 0 0) (.int .i64 0) w3 := ⟨0, Nat.zero_le _, rfl, GrT.nil _ _, Below.refl _ _⟩
  have H0 := hide h0
  have H14 := hide (And.intro hb23 hc3)
  clear h0 hb23 hc3 ho3 r3 o3
  go_loopw [17, 18] (fun vo vi wr => PbL w3 67 f vo vi wr) (fun _ vi _ => 67 - (intOf vi).toNat)
  case atStart => exact H0.out
  case round =>
    obtain ⟨i, hi', rfl, hG, hbr⟩ := hrel
    clear H0
    rename World => wr
    obtain ⟨oa, oc, rfl⟩ := hG.slice
    rw [map_len f 67 i hi'] at hG ⊢
    obtain ⟨hb14, hc4⟩ := H14.out
    have hbw := hb14.trans (hbr.mono hb14.size)
    by_cases hlt : i < 67
    · have hii : (i : Int) < 67 := by omega
      have z_i : (0 : Int) ≤ (i : Int) := Int.natCast_nonneg _
      obtain ⟨rP, hPl, hY, hfi0, hdsb, _, lc1, _⟩ := HH0.out
      have hbd : Below wr.heap.size wr wr.drew := (Below.refl _ _).drew
      obtain ⟨us, hown, htx, hap⟩ := hG.ex
      rw [map_len f 67 i hi'] at hown
      obtain ⟨I, hI⟩ : ∃ I : Nat, I = i + 1 := ⟨_, rfl⟩
      have e_I : (i : Int) + 1 = (I : Int) := by omega
      have s_I : IntKind.i64.wrap (I : Int) = (I : Int) := by rw [IntKind.wrap_i64]; omega
      obtain ⟨A, hA⟩ : ∃ A : Nat, A = 32 * i := ⟨_, rfl⟩
      obtain ⟨B, hB⟩ : ∃ B : Nat, B = 36 + A := ⟨_, rfl⟩
      obtain ⟨E, hE⟩ : ∃ E : Nat, E = 68 + A := ⟨_, rfl⟩
      have e_A : (32 : Int) * (i : Int) = (A : Int) := by omega
      have s_A : IntKind.i64.wrap (A : Int) = (A : Int) := by rw [IntKind.wrap_i64]; omega
      have e_B : (36 : Int) + (A : Int) = (B : Int) := by omega
      have s_B : IntKind.i64.wrap (B : Int) = (B : Int) := by rw [IntKind.wrap_i64]; omega
      have e_E : (68 : Int) + (A : Int) = (E : Int) := by omega
      have s_E : IntKind.i64.wrap (E : Int) = (E : Int) := by rw [IntKind.wrap_i64]; omega
      have z_B : (0 : Int) ≤ (B : Int) := Int.natCast_nonneg _
      have z_E : (0 : Int) ≤ (E : Int) := Int.natCast_nonneg _
      have l_BE : (B : Int) ≤ (E : Int) := by omega
      have l_Ec : (E : Int) ≤ (sc : Int) := by omega
      have d_EB : E - B = 32 := by omega
      have n_cB : ¬ sc = B := by omega
      have rPi := rP i hlt
      rw [show 36 + 32 * i = B by omega] at rPi
      have hPi := hPl i hlt
      rw [show 36 + 32 * i = B by omega] at hPi
      obtain ⟨D, hD⟩ : ∃ D, D = el ds i := ⟨_, rfl⟩
      have hDW : D ≤ 15 := by rw [hD]; exact hdsb i
      have s_D : IntKind.i64.wrap (D : Int) = (D : Int) := by rw [IntKind.wrap_i64]; omega
      have ci := keep_cell (hc4 i hlt) hbr
      rw [← hD] at ci
      have hfi : chN HH (preL id q) i D (15 - D) ((sig.drop B).take 32) = f i := by rw [hD, ← hfi0, show 36 + 32 * i = B by omega]
      have hcc := fun y (hb : Below wr.heap.size wr y) => HC.out y (hbw.trans (hb.mono hbw.size)) i D hlt hDW _ _ (rPi.below (hbw.trans (hb.mono hbw.size))) (fun n c e => by cases e) hPi
      rw [hfi, show D + (15 - D) = 15 by omega] at hcc
      have hS0 : wr.drew.cell? ⟨b3, f3 + i, none⟩ = some (.int .u32 (D : Int)) := ci
      have hb3w : b3 < w3.heap.size := World.block_lt_of_cell? _ _ (hc4 i hlt)
      have HK := hide (And.intro hI (And.intro hbr (And.intro hlt (And.intro hbd (And.intro hown (And.intro htx (And.intro hap (And.intro rPi (And.intro hb3w (And.intro hD hbw))))))))))
      have HA := hide (And.intro hA (And.intro hB hE))
      clear hI hbr hlt hown htx hap hG hbd hb3w hD hfi hbw hb14 hc4 hDW rP hPl hY hfi0 hdsb lc1 hA hB hE rPi hPi
      go_wp2
      go_region_held3 (fun y => y.cell? ⟨b3, f3 + i, none⟩ = some (.int .u32 (D : Int))) (first | exact hS0 | exact hS2 | exact hS3 | exact hS7) (first
        | (go_at_call 87; refine (hcc _ HK.out.2.2.2.1).mono ?_; rintro e z2 ⟨v2, rfl, r2, t2, n2, hb2⟩; have hbz := keep_trans HK.out.2.2.2.1 hb2; obtain ⟨a2, c2, rfl, _⟩ := r2.opens (N := 32) (by rw [← HH0.out.2.2.2.1]; exact HH0.out.2.2.1 i HK.out.2.2.1); have hS2 := keep_cell ci hbz; have hS3 := keep_cell ci (keep_trans hbz (keep_alloc z2 (.cells #[.slice a2 32 c2] 23))))
        | (refine step_append_lies _ (by rfl) _ _ 48 (by rfl) w3.heap.size 23 i0 (.slice none 0 0) 1 24 Tryz.underlying48 hi0 hz0 hz1 hz2 rfl (by decide) _ i us (by rfl) (own_grT HK.out.2.2.2.2.1 (keep_trans hbz (keep_alloc z2 (.cells #[.slice a2 32 c2] 23)))) ⟨z2.heap.size, 0, none⟩ 1 1 [.slice a2 32 c2] (by rfl) rfl (cell_one0 _ _ _) (by simp [Value.oneCell']) (by decide) (by unfold maxLen; have := HK.out.2.2.1; omega) (by have := HK.out.2.2.1; omega) (by have h1 := HK.out.2.1.size; have h2 := hbz.size; rw [World.size_alloc]; omega) _ rfl ?_; intro g7 cap7 w7 how7 hg7 hl7 hs7; have hS7 := hg7.cell hS3 (fun e => by have h1 := (HK.out.2.2.2.2.1.lt b3 e.symm).1; have h2 := HK.out.2.2.2.2.2.2.2.2.1; omega)))
      all_goals
        go_wp2
        obtain ⟨hI, hbr, hlt, hbd, hown, htx, hap, rPi, hb3w, hD, hbw⟩ := HK.out
        obtain ⟨rP, hPl, hY, hfi, hdsb, hdsl', _, _⟩ := HH0.out
        have hb3z := keep_trans hbz (keep_alloc z2 (.cells #[.slice a2 32 c2] 23))
        have r2' := r2.below (keep_alloc z2 (.cells #[.slice a2 32 c2] 23))
        have hfl : (f i).length = 32 := by rw [← hfi]; exact hY i hlt
        have aU : Apart1 (z2.alloc (.cells #[.slice a2 32 c2] 23)) (.slice oa i oc) (.slice a2 32 c2) := by
          rcases n2 with h | h
          · exact apart_new hown r2' (by rw [hfl]; decide) (h.mono hbd.size)
          · have h32 : 0 < ((sig.drop B).take 32).length := by
              have := hPl i hlt
              rw [show 36 + 32 * i = B by have := HA.out; omega] at this
              omega
            have e := apart_old hown rPi h32 H14.out.1.size hbw.size
            rw [← h] at e
            exact e.below hb3z.size
        have hgr := GrT.push (ls := ((List.range 67).map f).take i) (x := f i) (us := us) (vo := .slice oa i oc) (htx.below hb3z) (fun u hu => (hap u hu).below hb3z.size) r2' t2 aU (by rw [map_len f 67 i (by omega)]; exact how7) hg7 hl7
        rw [← map_take f hlt] at hgr
        rw [map_len f 67 i (by omega)] at hgr
        refine ⟨⟨i + 1, by omega, vint (by omega), hgr, (hbr.trans (hb3z.mono hbr.size)).grown hg7 (Nat.le_trans hbr.size hb3z.size) (fun k hk => (hown.lt k hk).1)⟩, by simp [intOf]; omega⟩
    · obtain rfl : i = 67 := by omega
      rw [List.take_of_length_le (by simp)] at hG
      have hky := HKy.out wr _ hbw hG.rows
      have HK := hide hbw
      clear hbw hG hbr hb14 hc4
      go_wp2_with (first | (go_at_call 103; refine hky.mono ?_; rintro e w9 ⟨v9, rfl, r9, n9, hb9⟩) | fail)
      go_ret2
      exact ⟨_, rfl, r9, n9.mono HK.out.size, HK.out.trans (hb9.mono HK.out.size)⟩
end Go.Proofs.YtogiballdmgcpaaGreatDoor
