/- Leaves that sign once: the document's Candidate of 8 bits. -/
import Derived.Test.YtogiballdmgcpaaGreatDoorLmK
import Derived.Test.YtogiballdmgcpaaGreatDoorLtV2
import Derived.Test.YtogiballdmgcpaaGreatDoorLtR3
import Derived.Test.YtogiballdmgcpaaGreatDoorLmD
import Derived.Test.YtogiballdmgcpaaGreatDoorPgF
namespace Go.Proofs.YtogiballdmgcpaaGreatDoor
open Go.RowKit
set_option linter.unusedVariables false
set_option linter.unusedSimpArgs false

set_option maxHeartbeats 8000000 in
set_option maxRecDepth 100000 in
theorem rcnd_8 (id text sig : List Nat) (q : Nat) (idv sv tv : Value) (w : World) (hi : Row .u8 256 w idv id) (ti : Tidy idv) (ht : Row .u8 256 w tv text) (tt : Tidy tv) (hs : Row .u8 256 w sv sig) (hq : q < 4294967296) (hl : id.length = 16) (htl : text.length ≤ 10000) (hsl : sig.length = 36 + 32 * 34) (hcode : numL (sig.take 4) = 4) :
    Calls Tryz.prog 69 #[.int .i64 8, idv, .int .u32 (q : Int), tv, sv] w fun e w' => ∃ v, e = .returned (.tuple #[v, .int .i64 0]) ∧ Row .u8 256 w' v (keyH shaL (preL id q) (endsC shaL (preL id q) 255 (digsL 8 32 2 0 (digH shaL (preL id q) ((sig.drop 4).take 32) text)) sig)) ∧ New w.heap.size v ∧ Below w.heap.size w w' := by
  obtain ⟨ia, ic, rfl, _⟩ := hi.opens hl
  obtain ⟨ta, tc, rfl, _⟩ := ht.opens rfl
  obtain ⟨sa, sc, rfl, lc1, lc2, ho⟩ := hs.opens hsl
  obtain ⟨sb, so, rfl, _⟩ := ho (by omega)
  have r4 : Row .u8 256 w (.slice (some ⟨sb, so, none⟩) 4 sc) (sig.take 4) := hs.cut (M := 4) (by omega)
  have hnm := fun y (e : y = w) => rnum_any _ _ y (e ▸ r4)
  rw [hcode] at hnm
  have rC : Row .u8 256 w (.slice (some ⟨sb, so + 4, none⟩) 32 (sc - 4)) ((sig.drop 4).take 32) := hs.mid (i := 4) (j := 36) (by decide) (by omega)
  have hCl : ((sig.drop 4).take 32).length = 32 := by rw [List.length_take, List.length_drop]; omega
  have tC : Tidy (.slice (some ⟨sb, so + 4, none⟩) 32 (sc - 4)) := fun n c e => by cases e
  have hk := fun y => rkind_ok y Kd.k8
  have hz := fun y => rsize_ok y Kd.k8
  have rP : ∀ i, i < 34 → Row .u8 256 w (.slice (some ⟨sb, so + (36 + 32 * i), none⟩) 32 (sc - (36 + 32 * i))) ((sig.drop (36 + 32 * i)).take 32) := fun i h => by
    have := hs.mid (i := 36 + 32 * i) (j := 68 + 32 * i) (by omega) (by omega)
    rw [show 68 + 32 * i - (36 + 32 * i) = 32 by omega] at this
    exact this
  have hPl : ∀ i, i < 34 → ((sig.drop (36 + 32 * i)).take 32).length = 32 := fun i h => by rw [List.length_take, List.length_drop]; omega
  have hdg := rdgst_any id ((sig.drop 4).take 32) text q _ _ _ w hi ti rC tC ht tt hq (by omega)
  have hc := fun y (hb : Below w.heap.size w y) (i D : Nat) (h : i < 34) (hD : D ≤ 255) yv z (rz : Row .u8 256 y yv z) (tz : Tidy yv) (hzl : z.length = 32) => rchain_any id z q i D (255 - D) _ yv y (hi.below hb) ti rz tz hq (by omega) (by omega) hzl (by omega)
  obtain ⟨Dg, hDg⟩ : ∃ d, d = digH shaL (preL id q) ((sig.drop 4).take 32) text := ⟨_, rfl⟩
  have hDgl : Dg.length = 32 := by rw [hDg]; exact shaL_len _
  rw [← hDg] at hdg ⊢
  obtain ⟨ds, hdse⟩ : ∃ l, l = digsL 8 32 2 0 Dg := ⟨_, rfl⟩
  have hdsl : ds.length = 34 := by rw [hdse]; exact digs_len _
  have hdsb : ∀ i, el ds i ≤ 255 := fun i => by rw [hdse]; exact el_le_of (K := 8) (digs_lt _) i
  have hds' := fun y dv (r : Row .u8 256 y dv Dg) (td : Tidy dv) => rdigs_8 Dg dv y r td hDgl
  rw [← hdse] at hds' ⊢
  have hY : ∀ i, i < 34 → (chN shaL (preL id q) i (el ds i) (255 - el ds i) ((sig.drop (36 + 32 * i)).take 32)).length = 32 := fun i h => chN_len shaL_len i _ _ (hPl i h) _
  have hfl : (endsC shaL (preL id q) 255 ds sig).flatten.length = 32 * 34 := by
    rw [flat_32_len _ (fun p hp => ?_)]
    · simp [endsC, hdsl]
    · unfold endsC at hp
      obtain ⟨i, hi, rfl⟩ := List.mem_map.1 hp
      exact hY i (by rw [hdsl] at hi; simpa using hi)
  have hkey := fun y ev (hb : Below w.heap.size w y) (r : Rows2 y ev (endsC shaL (preL id q) 255 ds sig)) => rkey_any id _ q _ ev y (hi.below hb) ti r hq (by omega) (by omega)
  unfold endsC at hkey ⊢
  rw [hdsl] at hkey ⊢
  clear hDg hdse hfl hcode
  generalize shaL = HH at *
  obtain ⟨i0, hi0, hz0, hz1, hz2⟩ := info_text
  obtain ⟨f, hf⟩ : ∃ f : Nat → List Nat, f = fun i => chN HH (preL id q) i (el ds i) (255 - el ds i) ((sig.drop (36 + 32 * i)).take 32) := ⟨_, rfl⟩
  rw [← hf] at hkey ⊢
  have hfi : ∀ i, chN HH (preL id q) i (el ds i) (255 - el ds i) ((sig.drop (36 + 32 * i)).take 32) = f i := fun i => by rw [hf]
  have h4c : (4 : Int) ≤ (sc : Int) := by omega
  have h36c : (36 : Int) ≤ (sc : Int) := by omega
  have hn4 : ¬ sc = 4 := by omega
  have HH0 := hide (And.intro rP (And.intro hPl (And.intro hY (And.intro hfi (And.intro hdsb (And.intro hdsl (And.intro lc1 hDgl)))))))
  have HC := hide hc
  have HKy := hide hkey
  have HD := hide hDgl
  clear hf rP hPl hY hfi hi ti ht tt hs hc hkey hdsb ho r4 rC hCl tC lc1 hDgl
  go_enter Tryz.func69, Tryz.ntmps69
  go_wp2_with (first
    | (go_at_call 77; refine (hk _).mono ?_; rintro e yy ⟨rfl, hy⟩; obtain rfl := hy.symm)
    | (go_at_call 67; refine (hz _).mono ?_; rintro e yy ⟨rfl, hy⟩; obtain rfl := hy.symm)
    | (go_at_call 36; refine (hnm _ rfl).mono ?_; rintro e yy ⟨rfl, hy⟩; obtain rfl := hy.symm)
    | (go_at_call 86; refine hdg.mono ?_; rintro e w2 ⟨v2, rfl, r2, n2, hb2⟩; have t2 := new_ntidy r2 (by have := HD.out; omega); obtain ⟨a2, c2, rfl, _⟩ := r2.opens HD.out)
    | (go_at_call 85; refine (hds' _ _ r2 t2).mono ?_; rintro e w3 ⟨v3, rfl, o3, hb3⟩; have r3 := o3.row; obtain ⟨a3, c3, rfl, _, _, ho3⟩ := r3.opens hdsl)
    | fail)
  have hb23 := keep_trans hb2 hb3
  obtain ⟨b3, f3, rfl, hc3⟩ := ho3 (by decide)
  have h0 : PbL w3 34 f (.slice none 0 0) (.int .i64 0) w3 := ⟨0, Nat.zero_le _, rfl, GrT.nil _ _, Below.refl _ _⟩
  have H0 := hide h0
  have H14 := hide (And.intro hb23 hc3)
  clear h0 hb23 hc3 ho3 r3 o3
  go_loopw [17, 18] (fun vo vi wr => PbL w3 34 f vo vi wr) (fun _ vi _ => 34 - (intOf vi).toNat)
  case atStart => exact H0.out
  case round =>
    obtain ⟨i, hi', rfl, hG, hbr⟩ := hrel
    clear H0
    rename World => wr
    obtain ⟨oa, oc, rfl⟩ := hG.slice
    rw [map_len f 34 i hi'] at hG ⊢
    obtain ⟨hb14, hc4⟩ := H14.out
    have hbw := hb14.trans (hbr.mono hb14.size)
    by_cases hlt : i < 34
    · have hii : (i : Int) < 34 := by omega
      have z_i : (0 : Int) ≤ (i : Int) := Int.natCast_nonneg _
      obtain ⟨rP, hPl, hY, hfi0, hdsb, _, lc1, _⟩ := HH0.out
      have hbd : Below wr.heap.size wr wr.drew := (Below.refl _ _).drew
      obtain ⟨us, hown, htx, hap⟩ := hG.ex
      rw [map_len f 34 i hi'] at hown
      obtain ⟨I, hI⟩ : ∃ I : Nat, I = i + 1 := ⟨_, rfl⟩
      have e_I : (i : Int) + 1 = (I : Int) := by omega
      have s_I : IntKind.i64.wrap (I : Int) = (I : Int) := by rw [IntKind.wrap_i64]; omega
      obtain ⟨A, hA⟩ : ∃ A : Nat, A = 32 * i := ⟨_, rfl⟩
      obtain ⟨B, hB⟩ : ∃ B : Nat, B = 36 + A := ⟨_, rfl⟩
      obtain ⟨E, hE⟩ : ∃ E : Nat, E = 68 + A := ⟨_, rfl⟩
      have e_A : (32 : Int) * (i : Int) = (A : Int) := by omega
      have s_A : IntKind.i64.wrap (A : Int) = (A : Int) := by rw [IntKind.wrap_i64]; omega
      have e_B : (36 : Int) + (A : Int) = (B : Int) := by omega
      have s_B : IntKind.i64.wrap (B : Int) = (B : Int) := by rw [IntKind.wrap_i64]; omega
      have e_E : (68 : Int) + (A : Int) = (E : Int) := by omega
      have s_E : IntKind.i64.wrap (E : Int) = (E : Int) := by rw [IntKind.wrap_i64]; omega
      have z_B : (0 : Int) ≤ (B : Int) := Int.natCast_nonneg _
      have z_E : (0 : Int) ≤ (E : Int) := Int.natCast_nonneg _
      have l_BE : (B : Int) ≤ (E : Int) := by omega
      have l_Ec : (E : Int) ≤ (sc : Int) := by omega
      have d_EB : E - B = 32 := by omega
      have n_cB : ¬ sc = B := by omega
      have rPi := rP i hlt
      rw [show 36 + 32 * i = B by omega] at rPi
      have hPi := hPl i hlt
      rw [show 36 + 32 * i = B by omega] at hPi
      obtain ⟨D, hD⟩ : ∃ D, D = el ds i := ⟨_, rfl⟩
      have hDW : D ≤ 255 := by rw [hD]; exact hdsb i
      have s_D : IntKind.i64.wrap (D : Int) = (D : Int) := by rw [IntKind.wrap_i64]; omega
      have ci := keep_cell (hc4 i hlt) hbr
      rw [← hD] at ci
      have hfi : chN HH (preL id q) i D (255 - D) ((sig.drop B).take 32) = f i := by rw [hD, ← hfi0, show 36 + 32 * i = B by omega]
      have hcc := fun y (hb : Below wr.heap.size wr y) => HC.out y (hbw.trans (hb.mono hbw.size)) i D hlt hDW _ _ (rPi.below (hbw.trans (hb.mono hbw.size))) (fun n c e => by cases e) hPi
      rw [hfi, show D + (255 - D) = 255 by omega] at hcc
      have hS0 : wr.drew.cell? ⟨b3, f3 + i, none⟩ = some (.int .u32 (D : Int)) := ci
      have hb3w : b3 < w3.heap.size := World.block_lt_of_cell? _ _ (hc4 i hlt)
      have HK := hide (And.intro hI (And.intro hbr (And.intro hlt (And.intro hbd (And.intro hown (And.intro htx (And.intro hap (And.intro rPi (And.intro hb3w (And.intro hD hbw))))))))))
      have HA := hide (And.intro hA (And.intro hB hE))
      clear hI hbr hlt hown htx hap hG hbd hb3w hD hfi hbw hb14 hc4 hDW rP hPl hY hfi0 hdsb lc1 hA hB hE rPi hPi
      go_wp2
      go_region_held3 (fun y => y.cell? ⟨b3, f3 + i, none⟩ = some (.int .u32 (D : Int))) (first | exact hS0 | exact hS2 | exact hS3 | exact hS7) (first
        | (go_at_call 87; refine (hcc _ HK.out.2.2.2.1).mono ?_; rintro e z2 ⟨v2, rfl, r2, t2, n2, hb2⟩; have hbz := keep_trans HK.out.2.2.2.1 hb2; obtain ⟨a2, c2, rfl, _⟩ := r2.opens (N := 32) (by rw [← HH0.out.2.2.2.1]; exact HH0.out.2.2.1 i HK.out.2.2.1); have hS2 := keep_cell ci hbz; have hS3 := keep_cell ci (keep_trans hbz (keep_alloc z2 (.cells #[.slice a2 32 c2] 23))))
        | (refine step_append_lies _ (by rfl) _ _ 48 (by rfl) w3.heap.size 23 i0 (.slice none 0 0) 1 24 Tryz.underlying48 hi0 hz0 hz1 hz2 rfl (by decide) _ i us (by rfl) (own_grT HK.out.2.2.2.2.1 (keep_trans hbz (keep_alloc z2 (.cells #[.slice a2 32 c2] 23)))) ⟨z2.heap.size, 0, none⟩ 1 1 [.slice a2 32 c2] (by rfl) rfl (cell_one0 _ _ _) (by simp [Value.oneCell']) (by decide) (by unfold maxLen; have := HK.out.2.2.1; omega) (by have := HK.out.2.2.1; omega) (by have h1 := HK.out.2.1.size; have h2 := hbz.size; rw [World.size_alloc]; omega) _ rfl ?_; intro g7 cap7 w7 how7 hg7 hl7 hs7; have hS7 := hg7.cell hS3 (fun e => by have h1 := (HK.out.2.2.2.2.1.lt b3 e.symm).1; have h2 := HK.out.2.2.2.2.2.2.2.2.1; omega)))
      all_goals
        go_wp2
        obtain ⟨hI, hbr, hlt, hbd, hown, htx, hap, rPi, hb3w, hD, hbw⟩ := HK.out
        obtain ⟨rP, hPl, hY, hfi, hdsb, hdsl', _, _⟩ := HH0.out
        have hb3z := keep_trans hbz (keep_alloc z2 (.cells #[.slice a2 32 c2] 23))
        have r2' := r2.below (keep_alloc z2 (.cells #[.slice a2 32 c2] 23))
        have hfl : (f i).length = 32 := by rw [← hfi]; exact hY i hlt
        have aU : Apart1 (z2.alloc (.cells #[.slice a2 32 c2] 23)) (.slice oa i oc) (.slice a2 32 c2) := by
          rcases n2 with h | h
          · exact apart_new hown r2' (by rw [hfl]; decide) (h.mono hbd.size)
          · have h32 : 0 < ((sig.drop B).take 32).length := by
              have := hPl i hlt
              rw [show 36 + 32 * i = B by have := HA.out; omega] at this
              omega
            have e := apart_old hown rPi h32 H14.out.1.size hbw.size
            rw [← h] at e
            exact e.below hb3z.size
        have hgr := GrT.push (ls := ((List.range 34).map f).take i) (x := f i) (us := us) (vo := .slice oa i oc) (htx.below hb3z) (fun u hu => (hap u hu).below hb3z.size) r2' t2 aU (by rw [map_len f 34 i (by omega)]; exact how7) hg7 hl7
        rw [← map_take f hlt] at hgr
        rw [map_len f 34 i (by omega)] at hgr
        refine ⟨⟨i + 1, by omega, vint (by omega), hgr, (hbr.trans (hb3z.mono hbr.size)).grown hg7 (Nat.le_trans hbr.size hb3z.size) (fun k hk => (hown.lt k hk).1)⟩, by simp [intOf]; omega⟩
    · obtain rfl : i = 34 := by omega
      rw [List.take_of_length_le (by simp)] at hG
      have hky := HKy.out wr _ hbw hG.rows
      have HK := hide hbw
      clear hbw hG hbr hb14 hc4
      go_wp2_with (first | (go_at_call 103; refine hky.mono ?_; rintro e w9 ⟨v9, rfl, r9, n9, hb9⟩) | fail)
      go_ret2
      exact ⟨_, rfl, r9, n9.mono HK.out.size, HK.out.trans (hb9.mono HK.out.size)⟩
end Go.Proofs.YtogiballdmgcpaaGreatDoor

/- Trees of leaves that sign once: the document's Verify where it comes to the sums. -/
namespace Go.Proofs.YtogiballdmgcpaaGreatDoor
open Go.RowKit
set_option linter.unusedVariables false
set_option linter.unusedSimpArgs false

/-- what a kind of leaf has -/
def nK (k : Nat) : Nat := if k = 1 then 256 else if k = 2 then 128 else if k = 4 then 64 else 32
def mK (k : Nat) : Nat := if k = 1 then 9 else if k = 2 then 5 else if k = 4 then 3 else 2
def sK (k : Nat) : Nat := if k = 1 then 7 else if k = 2 then 6 else if k = 4 then 4 else 0
def cK (k : Nat) : Nat := if k = 1 then 1 else if k = 2 then 2 else if k = 4 then 3 else 4
theorem Kd.is {k n m s c : Nat} (h : Kd k n m s c) : n = nK k ∧ m = mK k ∧ s = sK k ∧ c = cK k := by cases h <;> exact ⟨rfl, rfl, rfl, rfl⟩
/-- the key that a leaf's signature leads to -/
def cndT (k n m s : Nat) (id text sig : List Nat) (q : Nat) : List Nat := keyH shaL (preL id q) (endsC shaL (preL id q) (2 ^ k - 1) (digsL k n m s (digH shaL (preL id q) ((sig.drop 4).take 32) text)) sig)
theorem cndT_len (k n m s : Nat) (id text sig : List Nat) (q : Nat) : (cndT k n m s id text sig q).length = 32 := shaL_len _
theorem rcndK {k n m s c : Nat} (hk : Kd k n m s c) (id text sig : List Nat) (q : Nat) (idv sv tv : Value) (w : World) (hi : Row .u8 256 w idv id) (ti : Tidy idv) (ht : Row .u8 256 w tv text) (tt : Tidy tv) (hs : Row .u8 256 w sv sig) (hq : q < 4294967296) (hl : id.length = 16) (htl : text.length ≤ 10000) (hsl : sig.length = 36 + 32 * (n + m)) (hcode : numL (sig.take 4) = c) :
    Calls Tryz.prog 69 #[.int .i64 (k : Int), idv, .int .u32 (q : Int), tv, sv] w fun e w' => ∃ v, e = .returned (.tuple #[v, .int .i64 0]) ∧ Row .u8 256 w' v (cndT k n m s id text sig q) ∧ New w.heap.size v ∧ Below w.heap.size w w' := by
  unfold cndT
  cases hk
  · exact rcnd_1 id text sig q idv sv tv w hi ti ht tt hs hq hl htl hsl hcode
  · exact rcnd_2 id text sig q idv sv tv w hi ti ht tt hs hq hl htl hsl hcode
  · exact rcnd_4 id text sig q idv sv tv w hi ti ht tt hs hq hl htl hsl hcode
  · exact rcnd_8 id text sig q idv sv tv w hi ti ht tt hs hq hl htl hsl hcode
/-- the neighbours that a signature ends with -/
def vChk (l : List Nat) : Nat → List (List Nat)
  | 0 => []
  | h + 1 => l.take 32 :: vChk (l.drop 32) h
theorem vChk_len : ∀ (h : Nat) (l : List Nat), (vChk l h).length = h
  | 0, _ => rfl
  | h + 1, l => by show (vChk (l.drop 32) h).length + 1 = _; rw [vChk_len h]
theorem vChk_flat : ∀ (h : Nat) (l : List Nat), l.length = 32 * h → (vChk l h).flatten = l
  | 0, l, hl => (List.eq_nil_of_length_eq_zero (by omega)).symm
  | h + 1, l, hl => by
    show l.take 32 ++ (vChk (l.drop 32) h).flatten = l
    rw [vChk_flat h (l.drop 32) (by rw [List.length_drop]; omega), List.take_append_drop]
theorem vChk_32 : ∀ (h : Nat) (l : List Nat), l.length = 32 * h → ∀ p ∈ vChk l h, p.length = 32
  | 0, _, _, p, hp => by cases hp
  | h + 1, l, hl, p, hp => by
    rcases List.mem_cons.1 hp with e | e
    · rw [e, List.length_take]; omega
    · exact vChk_32 h (l.drop 32) (by rw [List.length_drop]; omega) p e
/-- the sum that a signature leads to -/
def vTopK (k n m s : Nat) (pub text sig : List Nat) : List Nat :=
  climb (ovL ((pub.drop 8).take 16)) (vChk (sig.drop (8 + szW (k : Int))) (ctH sig)) (2 ^ ctH sig + numL (sig.take 4)) (lfS ((pub.drop 8).take 16) (2 ^ ctH sig + numL (sig.take 4)) (cndT k n m s ((pub.drop 8).take 16) text ((sig.drop 4).take (szW (k : Int))) (numL (sig.take 4))))
theorem fTr1 (q : Nat) (w : World) : (Instr.fieldAt 45 (.pointer (some ⟨q, 0, none⟩)) 1).run Tryz.prog w = .ok (.pointer (some ⟨q, 1, none⟩)) w := by simp [go_sem]
theorem conv_u64u32 (n : Nat) (h : n < 4294967296) (w : World) : (convert 26 52 (.int .u64 (n : Int))).run Tryz.prog w = .ok (.int .u32 (n : Int)) w := by
  have hq : IntKind.u32.wrap (n : Int) = (n : Int) := by rw [IntKind.wrap_u32]; omega
  simp [go_sem, convert, Sem.run_bind, run_underlying Tryz.underlying26, run_underlying Tryz.underlying52, hq]
theorem Kd.size {k n m s c : Nat} (h : Kd k n m s c) : szW (k : Int) = 36 + 32 * (n + m) := by cases h <;> rfl
/-- where the climb stands -/
def VcI (id TOP : List Nat) (w : World) (vn vs vp : Value) (wr : World) : Prop := ∃ (ps : List (List Nat)) (n : Nat) (s : List Nat), vn = .int .u64 (n : Int) ∧ Row .u8 256 wr vs s ∧ s.length = 32 ∧ Row .u8 256 wr vp ps.flatten ∧ (∀ p ∈ ps, p.length = 32) ∧ Lev ps.length n ∧ n < 67108864 ∧ climb (ovL id) ps n s = TOP ∧ Below w.heap.size w wr
end Go.Proofs.YtogiballdmgcpaaGreatDoor

/- Trees of leaves that sign once: the document's Verify, from the leaf's sum up. -/
namespace Go.Proofs.YtogiballdmgcpaaGreatDoor
open Go.RowKit
set_option linter.unusedVariables false
set_option linter.unusedSimpArgs false

set_option maxHeartbeats 8000000 in
set_option maxRecDepth 100000 in
theorem v_tail {w z : World} {bb bo pc sb so L sc BT q Z kc H W M : Nat} {ka : Option Addr} {pub sig CN TOP : List Nat} {R : Int} (hR : Hid (R = if TOP = pub.drop 24 then 0 else 11)) (y1 y3 y4 y5 y6 y7 y9 y10 y15 y16 y17 y18 y19 y20 y21 y22 y23 y24 y25 y26 y27 y28 y29 y30 y31 y32 y33 y34 y35 y36 y37 y38 y39 y40 y41 y42 y43 y44 y45 y46 y47 y48 y49 y50 y51 y52 y53 y54 y55 y56 y57 y58 y59 y60 y61 y62 y63 y64 y65 y66 y67 y68 y69 y70 y71 y72 y73 y74 y75 y76 y77 y78 y79 y80 y81 y82 y83 y84 y85 y86 y87 y88 y89 y90 y91 y92 y93 y94 y95 y96 y97 y98 y99 y100 y101 y102 y103 y104 y105 y106 y107 y108 y109 y110 y111 y112 y113 y114 y115 y116 y117 y118 y119 y120 y121 y122 y123 y124 : Value)
    (hrow : Row .u8 256 z (.slice (some ⟨bb, bo, none⟩) 56 pc) pub) (h56 : pub.length = 56) (hs : Row .u8 256 z (.slice (some ⟨sb, so, none⟩) L sc) sig) (hL : sig.length = L) (hLn : L = 8 + Z + 32 * H) (hZ0 : Z ≤ 10000) (bt : Bx2T z BT (.int .i64 (H : Int)) (.int .i64 (W : Int))) (rk : Row .u8 256 z (.slice ka 32 kc) CN)
    (hM : M = 2 ^ H) (hMb : M ≤ 33554432) (hH : H ≤ 25) (hq : q < M) (hkw : Below w.heap.size w z) (hpc : pc ≤ 9223372036854775807)
    (hTOP : climb (ovL ((pub.drop 8).take 16)) (vChk (sig.drop (8 + Z)) H) (2 ^ H + q) (lfS ((pub.drop 8).take 16) (2 ^ H + q) CN) = TOP) :
    Code.wp Tryz.prog ((cRA (cRA (cRA (cRA (cRA (cRA (cRA (cRA (cRA (cRA (Tryz.f38.body.getD .skip)))))))))))) (bodyPost Tryz.prog Tryz.f38 fun e w' => e = .returned (.int .i64 R) ∧ Below w.heap.size w w') { tmps := #[.slice (some ⟨bb, bo, none⟩) 56 pc, y1, .slice (some ⟨sb, so, none⟩) L sc, y3, y4, y5, y6, y7, .pointer (some ⟨BT, 0, none⟩), y9, y10, .int .u64 (q : Int), .slice (some ⟨bb, bo + 8, none⟩) 16 (pc - 8), .int .i64 (Z : Int), .slice ka 32 kc, y15, y16, y17, y18, y19, y20, y21, y22, y23, y24, y25, y26, y27, y28, y29, y30, y31, y32, y33, y34, y35, y36, y37, y38, y39, y40, y41, y42, y43, y44, y45, y46, y47, y48, y49, y50, y51, y52, y53, y54, y55, y56, y57, y58, y59, y60, y61, y62, y63, y64, y65, y66, y67, y68, y69, y70, y71, y72, y73, y74, y75, y76, y77, y78, y79, y80, y81, y82, y83, y84, y85, y86, y87, y88, y89, y90, y91, y92, y93, y94, y95, y96, y97, y98, y99, y100, y101, y102, y103, y104, y105, y106, y107, y108, y109, y110, y111, y112, y113, y114, y115, y116, y117, y118, y119, y120, y121, y122, y123, y124], defers := [] } z := by
  simp only [Tryz.f38, Option.getD_some, cRA]
  have cH := bt.c0
  have e_M : (2 : Int) ^ H = (M : Int) := by rw [hM]; norm_cast
  have s_M : IntKind.u64.wrap (M : Int) = (M : Int) := by rw [IntKind.wrap_u64]; omega
  obtain ⟨n, hn⟩ : ∃ n, M + q = n := ⟨_, rfl⟩
  have e_n : (M : Int) + (q : Int) = (n : Int) := by omega
  have s_n : IntKind.u64.wrap (n : Int) = (n : Int) := by rw [IntKind.wrap_u64]; omega
  obtain ⟨E, hE⟩ : ∃ E, 8 + Z = E := ⟨_, rfl⟩
  have e_E : (8 : Int) + (Z : Int) = (E : Int) := by omega
  have s_E : IntKind.i64.wrap (E : Int) = (E : Int) := by rw [IntKind.wrap_i64]; omega
  have hls : L ≤ sc := by
    obtain ⟨_, _, he, h1, _⟩ := id hs
    simp at he
    omega
  obtain ⟨AP, hsl, hAP⟩ := slice_from (some ⟨sb, so, none⟩) L sc E (by omega) hls
  have rp := hs.behind (F := E) (by omega) hAP
  have rid : Row .u8 256 z (.slice (some ⟨bb, bo + 8, none⟩) 16 (pc - 8)) ((pub.drop 8).take 16) := hrow.mid (i := 8) (j := 24) (by decide) (by omega)
  rw [hE, ← hM, hn] at hTOP
  have hid : ((pub.drop 8).take 16).length = 16 := by rw [List.length_take, List.length_drop, h56]; decide
  have r24 := hrow
  generalize (pub.drop 8).take 16 = id at *
  have cn32 : CN.length = 32 := by
    obtain ⟨_, _, he, _⟩ := _root_.id rk
    simp only [Value.slice.injEq] at he
    exact he.2.1.symm
  have hlf := rleaf_any id CN n (.slice (some ⟨bb, bo + 8, none⟩) 16 (pc - 8)) (.slice ka 32 kc) z rid (tidy_atA _ _ _) rk (row_tidyA rk (by omega)) (by omega) (by omega)
  have hlf32 : (lfS id n CN).length = 32 := shaL_len _
  generalize lfS id n CN = LF at *
  have HF := hide (And.intro hrow (And.intro hs (And.intro rp (And.intro rid (And.intro hTOP (And.intro hlf32 (And.intro hn (And.intro hM (And.intro hE (And.intro hLn (And.intro h56 hid)))))))))))
  clear hrow hs rp rid hTOP hlf32 hn hM hE hLn bt rk h56 hid r24
  go_wp2_with (first
    | (go_at_call 70; refine hlf.mono ?_; rintro e w1 ⟨v1, rfl, r1, n1, g1⟩; obtain ⟨a1, c1, rfl, _⟩ := r1.opens HF.out.2.2.2.2.2.1)
    | fail)
  obtain ⟨hrow, hs, rp, rid, hTOP, hlf32, hn, hM, hE, hLn, h56, hid⟩ := HF.out
  have hpl : (sig.drop E).length = 32 * H := by rw [List.length_drop]; omega
  have h0 : VcI id TOP w (.int .u64 (n : Int)) (.slice a1 32 c1) (.slice AP (L - E) (sc - E)) w1 := by
    refine ⟨vChk (sig.drop E) H, n, LF, rfl, r1, hlf32, ?_, vChk_32 H _ hpl, ?_, by omega, hTOP, keep_trans hkw g1⟩
    · rw [vChk_flat H _ hpl]; exact rp.below g1
    · rw [vChk_len, ← hn, hM]; exact lev_leaf (by rw [← hM]; exact hq)
  have HG := hide (And.intro h0 (And.intro (rid.below g1) (And.intro (hrow.below g1) (And.intro h56 (And.intro hid g1)))))
  have h24 : (24 : Int) ≤ (pc : Int) := by
    obtain ⟨_, _, he, h1, _⟩ := _root_.id hrow
    simp only [Value.slice.injEq] at he
    omega
  clear h0 hrow hs rp rid hTOP hlf32 hn hM hE hLn h56 hid HF hsl hAP hlf r1 n1 g1 hpl cH e_M s_M e_n s_n e_E s_E
  have hpc56 : 56 ≤ pc := by
    obtain ⟨_, _, he, h1, _⟩ := _root_.id HG.out.2.2.1
    simp only [Value.slice.injEq] at he
    omega
  obtain ⟨A24, hsl24, hA24⟩ := slice_from (some ⟨bb, bo, none⟩) 56 pc 24 (by decide) hpc56
  go_loopw [16, 17, 18] (fun vn vs vp wr => Below w1.heap.size w1 wr ∧ VcI id TOP w vn vs vp wr) (fun vn _ _ _ => (intOf vn).toNat)
  case atStart => exact ⟨Below.refl _ _, HG.out.1⟩
  case round =>
    obtain ⟨hb1, ps, k, s, rfl, rs, hs32, rp, hp32, hlev, hk26, hcl, hbr⟩ := hrel
    obtain ⟨_, rid1, hrow1, h56, hid, _⟩ := HG.out
    have rid := rid1.below hb1
    have hrow := hrow1.below hb1
    obtain ⟨sa, sc', rfl, _⟩ := rs.opens hs32
    by_cases h1 : 1 < k
    · have h1' : (1 : Int) < (k : Int) := by omega
      match ps, hp32, hlev, hcl, rp with
      | [], _, hlev, _, _ => exact absurd hlev.2 (by simp; omega)
      | p :: ps, hp32, hlev, hcl, rp =>
        have hp0 : p.length = 32 := hp32 p (by simp)
        obtain ⟨Lp, hLp⟩ : ∃ x, (p :: ps).flatten.length = x := ⟨_, rfl⟩
        have hLp32 : 32 ≤ Lp := by rw [← hLp, List.flatten_cons, List.length_append]; omega
        have rp' := rp
        obtain ⟨qa, qc, rfl, hq1, hq2, hqo⟩ := rp'.opens hLp
        obtain ⟨qb, qo, rfl, _⟩ := hqo (by omega)
        clear hqo
        have rp32 : Row .u8 256 wr (.slice (some ⟨qb, qo, none⟩) 32 qc) p := by
          have := rp.cut (M := 32) (by omega)
          rwa [List.flatten_cons, List.take_append_of_le_length (by omega), List.take_of_length_le (by omega)] at this
        have rpn : Row .u8 256 wr (.slice (if qc = 32 then some ⟨qb, qo, none⟩ else some ⟨qb, qo + 32, none⟩) (Lp - 32) (qc - 32)) ps.flatten := by
          have := fun A hA => rp.behind (F := 32) (A := A) hLp32 hA
          rw [List.flatten_cons, List.drop_append_of_le_length (by omega), List.drop_of_length_le (by omega), List.nil_append] at this
          split
          · rename_i e; exact this _ (.inl ⟨rfl, e⟩)
          · exact this _ (.inr rfl)
        have h32q : (32 : Int) ≤ (qc : Int) := by omega
        obtain ⟨m, hm⟩ : ∃ m, k / 2 = m := ⟨_, rfl⟩
        have e_m : (k : Int) / 2 = (m : Int) := by omega
        have s_m : IntKind.u64.wrap (m : Int) = (m : Int) := by rw [IntKind.wrap_u64]; omega
        have lev' : Lev ps.length m := by rw [← hm]; exact Lev.up hlev
        have ts : Tidy (.slice sa 32 sc') := row_tidyA rs (by omega)
        have tp : Tidy (.slice (some ⟨qb, qo, none⟩) 32 qc) := row_tidyA rp32 (by omega)
        by_cases h2 : k % 2 = 0
        · have e_r : (k : Int) % 2 = 0 := by omega
          have hov := rover_any id s p m (.slice (some ⟨bb, bo + 8, none⟩) 16 (pc - 8)) (.slice sa 32 sc') (.slice (some ⟨qb, qo, none⟩) 32 qc) wr rid (tidy_atA _ _ _) rs ts rp32 tp (by omega) (by omega)
          have ho32 : (ovL id m s p).length = 32 := shaL_len _
          have hcl' : climb (ovL id) ps m (ovL id m s p) = TOP := by rw [← hcl, ← hm]; show _ = climb (ovL id) ps (k / 2) (if k % 2 = 0 then _ else _); rw [if_pos h2]
          have HR := hide (And.intro rpn (And.intro lev' (And.intro hcl' (And.intro ho32 (And.intro hbr (And.intro hb1 (And.intro hp32 (And.intro hm hk26))))))))
          generalize ovL id m s p = OV at *
          clear rs hs32 rp hp32 hlev hcl hbr rid hrow rid1 hrow1 rp' rp32 rpn lev' ts tp ho32 hcl' hb1 hLp hp0
          go_wp2_with (first
            | (go_at_call 71; refine hov.mono ?_; rintro e w2 ⟨v2, rfl, r2, n2, g2⟩; obtain ⟨a2, c2, rfl, _⟩ := r2.opens HR.out.2.2.2.1)
            | fail)
          obtain ⟨rpn, lev', hcl', ho32, hbr, hb1, hp32, hm, hk26⟩ := HR.out
          refine ⟨⟨keep_trans hb1 g2, ps, m, OV, rfl, r2, ho32, rpn.below g2, fun p' hp' => hp32 p' (List.mem_cons_of_mem _ hp'), lev', by omega, hcl', keep_trans hbr g2⟩, ?_⟩
          simp [intOf]
          omega
        · have e_r : (k : Int) % 2 = 1 := by omega
          have hov := rover_any id p s m (.slice (some ⟨bb, bo + 8, none⟩) 16 (pc - 8)) (.slice (some ⟨qb, qo, none⟩) 32 qc) (.slice sa 32 sc') wr rid (tidy_atA _ _ _) rp32 tp rs ts (by omega) (by omega)
          have ho32 : (ovL id m p s).length = 32 := shaL_len _
          have hcl' : climb (ovL id) ps m (ovL id m p s) = TOP := by rw [← hcl, ← hm]; show _ = climb (ovL id) ps (k / 2) (if k % 2 = 0 then _ else _); rw [if_neg h2]
          have HR := hide (And.intro rpn (And.intro lev' (And.intro hcl' (And.intro ho32 (And.intro hbr (And.intro hb1 (And.intro hp32 (And.intro hm hk26))))))))
          generalize ovL id m p s = OV at *
          clear rs hs32 rp hp32 hlev hcl hbr rid hrow rid1 hrow1 rp' rp32 rpn lev' ts tp ho32 hcl' hb1 hLp hp0
          go_wp2_with (first
            | (go_at_call 71; refine hov.mono ?_; rintro e w2 ⟨v2, rfl, r2, n2, g2⟩; obtain ⟨a2, c2, rfl, _⟩ := r2.opens HR.out.2.2.2.1)
            | fail)
          obtain ⟨rpn, lev', hcl', ho32, hbr, hb1, hp32, hm, hk26⟩ := HR.out
          refine ⟨⟨keep_trans hb1 g2, ps, m, OV, rfl, r2, ho32, rpn.below g2, fun p' hp' => hp32 p' (List.mem_cons_of_mem _ hp'), lev', by omega, hcl', keep_trans hbr g2⟩, ?_⟩
          simp [intOf]
          omega
    · have h1' : ¬ ((1 : Int) < (k : Int)) := by omega
      have hps : ps = [] := by
        cases ps with
        | nil => rfl
        | cons p ps =>
          have := hlev.1
          rw [List.length_cons, Nat.pow_succ] at this
          have := Nat.pow_pos (n := ps.length) (show 0 < 2 by decide)
          omega
      subst hps
      have hTs : s = TOP := hcl
      subst hTs
      have hne24 : ¬ pc = 24 := by omega
      have r24 : Row .u8 256 wr (.slice (some ⟨bb, bo + 24, none⟩) 32 (pc - 24)) (pub.drop 24) := hrow.behind (F := 24) (by decide) (.inr rfl)
      have hsm := rsame_b (.slice sa 32 sc') (.slice (some ⟨bb, bo + 24, none⟩) 32 (pc - 24)) s (pub.drop 24) wr rs r24
      have HR := hide hbr
      clear rs hs32 rp hp32 hlev hcl hbr rid hrow rid1 hrow1 hb1 r24
      by_cases hd : s = pub.drop 24
      · rw [decide_eq_true hd] at hsm
        have HD := hide hd
        clear hd
        go_wp2_with (first
          | (go_at_call 13; refine hsm.mono ?_; rintro e w2 ⟨rfl, g2⟩)
          | fail)
        go_ret
        exact ⟨by rw [hR.out, if_pos HD.out]; rfl, keep_trans HR.out g2⟩
      · rw [decide_eq_false hd] at hsm
        have HD := hide hd
        clear hd
        go_wp2_with (first
          | (go_at_call 13; refine hsm.mono ?_; rintro e w2 ⟨rfl, g2⟩)
          | fail)
        go_ret
        exact ⟨by rw [hR.out, if_neg HD.out]; rfl, keep_trans HR.out g2⟩
end Go.Proofs.YtogiballdmgcpaaGreatDoor
