/- Leaves that sign once: the document's Sign. -/
import Derived.Test.YtogiballdmgcpaaGreatDoorLmP
namespace Go.Proofs.YtogiballdmgcpaaGreatDoor
open Go.RowKit
set_option linter.unusedVariables false
set_option linter.unusedSimpArgs false

/-- where a loop over parts stands, behind texts that are there already -/
def PsL (w : World) (pf : List (List Nat)) (P : Nat) (f : Nat → List Nat) (vo vi : Value) (wr : World) : Prop := ∃ i : Nat, i ≤ P ∧ vi = .int .i64 (i : Int) ∧ GrT wr w.heap.size vo (pf ++ ((List.range P).map f).take i) ∧ Below w.heap.size w wr
theorem GrT.lit2 {w : World} {u v : Value} {a b : List Nat} (hu : Row .u8 256 w u a) (tu : Tidy u) (hv : Row .u8 256 w v b) (tv : Tidy v) (la : 0 < a.length) (lb : 0 < b.length) : GrT (w.alloc (.cells #[u, v] 23)) w.heap.size (.slice (some ⟨w.heap.size, 0, none⟩) 2 2) [a, b] := by
  have hb := keep_alloc w (.cells #[u, v] 23)
  have ap : ∀ {x : Value} {l : List Nat}, Row .u8 256 w x l → 0 < l.length → Apart1 (w.alloc (.cells #[u, v] 23)) (.slice (some ⟨w.heap.size, 0, none⟩) 2 2) x := fun hx hl q hq => by
    have h1 := hx.old hl hq
    refine ⟨by rw [World.size_alloc]; omega, fun e => ?_⟩
    have : w.heap.size = q := by simpa [Value.ownBlock] using e
    omega
  refine ⟨⟨[u, v], World.ownsRow_lit (base := w.heap.size) (e := 23) (size := 1) w #[u, v] 2 (Nat.le_refl _) (by decide) rfl, texts_cons (hu.below hb) tu (texts_cons (hv.below hb) tv (Texts.nil _)), fun x hx => ?_⟩⟩
  rcases List.mem_cons.1 hx with h | h
  · rw [h]; exact ap hu la
  · have : x = v := by simpa using h
    rw [this]; exact ap hv lb
theorem el_le_of {K : Nat} {l : List Nat} (h : ∀ x ∈ l, x < 2 ^ K) (i : Nat) : el l i ≤ 2 ^ K - 1 := by
  by_cases hi : i < l.length
  · rw [el_at hi]; have := h _ (List.getElem_mem hi); omega
  · unfold el; rw [List.getElem?_eq_none (by omega)]; exact Nat.zero_le _
set_option maxHeartbeats 8000000 in
set_option maxRecDepth 100000 in
theorem rsgn_1 (id seed text : List Nat) (q : Nat) (idv sv tv : Value) (w : World) (hi : Row .u8 256 w idv id) (ti : Tidy idv) (hs : Row .u8 256 w sv seed) (ts : Tidy sv) (ht : Row .u8 256 w tv text) (tt : Tidy tv) (hq : q < 4294967296) (hl : id.length = 16) (hsl : seed.length = 32) (htl : text.length ≤ 10000) :
    Calls Tryz.prog 55 #[.int .i64 1, idv, .int .u32 (q : Int), sv, tv] w fun e w' => ∃ v, e = .returned (.tuple #[v, .int .i64 0]) ∧ Row .u8 256 w' v (sgnH shaL (preL id q) 1 (digsL 1 256 9 7 (digH shaL (preL id q) (lmCn shaL (preL id q) seed) text)) seed) ∧ New w.heap.size v ∧ Below w.heap.size w w' := by
  have hw := rwrong_any 1 id seed idv sv w hi hs
  rw [show wrgC 1 id.length seed.length = 0 by rw [hl, hsl]; decide] at hw
  obtain ⟨ia, ic, rfl, _⟩ := hi.opens hl
  obtain ⟨sa, sc, rfl, _⟩ := hs.opens hsl
  obtain ⟨ta, tc, rfl, _⟩ := ht.opens rfl
  have hk := fun y => rkind_ok y Kd.k1
  have hp := fun y (hb : Below w.heap.size w y) (i : Nat) (h : i < 65536) => rpart_any id seed q i _ _ y (hi.below hb) ti (hs.below hb) ts hq h (by omega)
  have hpc := hp w (Below.refl _ _) 65533 (by decide)
  have hX : ∀ i, (lmX shaL (preL id q) i 255 seed).length = 32 := fun i => shaL_len _
  have hdg := fun y cv c (hb : Below w.heap.size w y) (rc : Row .u8 256 y cv c) (tc : Tidy cv) (hcl : c.length = 32) => rdgst_any id c text q _ cv _ y (hi.below hb) ti rc tc (ht.below hb) tt hq (by omega)
  have hdl : ∀ c, (digH shaL (preL id q) c text).length = 32 := fun c => shaL_len _
  have hds := fun y dv d (r : Row .u8 256 y dv d) (td : Tidy dv) (h : d.length = 32) => rdigs_1 d dv y r td h
  have h4 := fun y => rbe4 1 y (by decide)
  have hc := fun y (hb : Below w.heap.size w y) (i D : Nat) (h : i < 265) (hD : D ≤ 1) yv z (rz : Row .u8 256 y yv z) (tz : Tidy yv) (hz : z.length = 32) => rchain_any id z q i 0 D _ yv y (hi.below hb) ti rz tz hq (by omega) (by omega) hz (by omega)
  simp only [Nat.zero_add] at hc
  obtain ⟨Cn, hCn⟩ : ∃ c, c = lmCn shaL (preL id q) seed := ⟨_, rfl⟩
  have hCl : Cn.length = 32 := by rw [hCn]; exact shaL_len _
  have hpc' : Calls Tryz.prog 84 #[.slice ia 16 ic, .int .u32 (q : Int), .int .i64 65533, .slice sa 32 sc] w fun e w' => ∃ v, e = .returned v ∧ Row .u8 256 w' v Cn ∧ New w.heap.size v ∧ Below w.heap.size w w' := by rw [hCn]; exact hpc
  rw [← hCn]
  obtain ⟨Dg, hDg⟩ : ∃ d, d = digH shaL (preL id q) Cn text := ⟨_, rfl⟩
  have hDgl : Dg.length = 32 := by rw [hDg]; exact hdl _
  have hdg' := fun y cv (hb : Below w.heap.size w y) (rc : Row .u8 256 y cv Cn) (tc : Tidy cv) => hdg y cv Cn hb rc tc hCl
  rw [← hDg] at hdg' ⊢
  obtain ⟨ds, hdse⟩ : ∃ l, l = digsL 1 256 9 7 Dg := ⟨_, rfl⟩
  have hdsl : ds.length = 265 := by rw [hdse]; exact digs_len _
  have hdsb : ∀ i, el ds i ≤ 1 := fun i => by rw [hdse]; exact el_le_of (K := 1) (digs_lt _) i
  have hds' := fun y dv (r : Row .u8 256 y dv Dg) (td : Tidy dv) => hds y dv Dg r td hDgl
  rw [← hdse] at hds' ⊢
  have hY : ∀ i, (chN shaL (preL id q) i 0 (el ds i) (lmX shaL (preL id q) i 255 seed)).length = 32 := fun i => chN_len shaL_len i 0 _ (hX i) _
  have hsg : sgnH shaL (preL id q) 1 ds seed = be4 1 ++ (Cn ++ (sgnP shaL (preL id q) ds seed).flatten) := by unfold sgnH; rw [hCn]
  rw [hsg]
  have hfl : (sgnP shaL (preL id q) ds seed).flatten.length = 32 * 265 := by
    rw [flat_32_len _ (sgnP_32 shaL_len ds seed)]
    simp [sgnP, hdsl]
  unfold sgnP at hfl ⊢
  rw [hdsl] at hfl ⊢
  clear hsg hpc hdg hds hCn hDg hdse hdl
  generalize shaL = HH at *
  obtain ⟨i0, hi0, hz0, hz1, hz2⟩ := info_text
  obtain ⟨f, hf⟩ : ∃ f : Nat → List Nat, f = fun i => chN HH (preL id q) i 0 (el ds i) (lmX HH (preL id q) i 255 seed) := ⟨_, rfl⟩
  rw [← hf] at hfl ⊢
  have hfi : ∀ i, chN HH (preL id q) i 0 (el ds i) (lmX HH (preL id q) i 255 seed) = f i := fun i => by rw [hf]
  have hj := fun y lv (r : Rows2 y lv ([be4 1, Cn] ++ (List.range 265).map f)) => rjoin_any lv _ y r (by rw [List.flatten_append, List.length_append, hfl]; simp [be4_len, hCl])
  rw [show ([be4 1, Cn] ++ (List.range 265).map f).flatten = be4 1 ++ (Cn ++ ((List.range 265).map f).flatten) by simp] at hj
  have HH0 := hide (And.intro hX (And.intro hY (And.intro hfi (And.intro hdsb hdsl))))
  have HC := hide hc
  have HPp := hide hp
  have HJ := hide hj
  have HCl := hide (And.intro hCl hDgl)
  clear hf hX hY hfi hi ti hs ts ht tt hc hp hj hfl hdsb
  go_enter Tryz.func55, Tryz.ntmps55
  go_wp2_with (first
    | (go_at_call 83; refine hw.mono ?_; rintro e yy ⟨rfl, hy⟩; obtain rfl := hy.symm)
    | (go_at_call 77; refine (hk _).mono ?_; rintro e yy ⟨rfl, hy⟩; obtain rfl := hy.symm)
    | (go_at_call 84; refine hpc'.mono ?_; rintro e w1 ⟨v1, rfl, r1, n1, hb1⟩; have t1 := new_ntidy r1 (by have := HCl.out.1; omega); obtain ⟨a1, c1, rfl, _⟩ := r1.opens HCl.out.1)
    | (go_at_call 86; refine (hdg' _ _ hb1 r1 t1).mono ?_; rintro e w2 ⟨v2, rfl, r2, n2, hb2⟩; have t2 := new_ntidy r2 (by have := HCl.out.2; omega); obtain ⟨a2, c2, rfl, _⟩ := r2.opens HCl.out.2)
    | (go_at_call 85; refine (hds' _ _ r2 t2).mono ?_; rintro e w3 ⟨v3, rfl, o3, hb3⟩; have r3 := o3.row; obtain ⟨a3, c3, rfl, _, _, ho3⟩ := r3.opens hdsl)
    | (go_at_call 24; refine (h4 _).mono ?_; rintro e w4 ⟨v4, rfl, o4, hb4⟩; have r4 := o4.row; have t4 := o4.tidy; obtain ⟨a4, c4, rfl, _⟩ := r4.opens (be4_len _))
    | fail)
  have hb24 := keep_trans (keep_trans hb2 hb3) hb4
  have hb14 := keep_trans hb1 hb24
  have hG0 := GrT.lit2 r4 t4 (r1.below hb24) t1 (by rw [be4_len]; decide) (by have := HCl.out.1; omega)
  have hbL := keep_alloc w4 (.cells #[.slice a4 4 c4, .slice a1 32 c1] 23)
  have h0 : PsL w4 [be4 1, Cn] 265 f (.slice (some ⟨w4.heap.size, 0, none⟩) 2 2) (.int .i64 0) (w4.alloc (.cells #[.slice a4 4 c4, .slice a1 32 c1] 23)) := ⟨0, Nat.zero_le _, rfl, by simpa using hG0, hbL⟩
  have H0 := hide h0
  have r3w := r3.below hb4
  obtain ⟨b3, f3, rfl, hc3⟩ := ho3 (by decide)
  have hc4 : ∀ i, i < 265 → w4.cell? ⟨b3, f3 + i, none⟩ = some (.int .u32 (el ds i)) := fun i h => keep_cell (hc3 i h) hb4
  have H14 := hide (And.intro hb14 hc4)
  clear h0 hG0 hbL hb24 hb14 r3w hc3 ho3 r3 o3 hc4
  go_loopw [19, 20] (fun vo vi wr => PsL w4 [be4 1, Cn] 265 f vo vi wr) (fun _ vi _ => 265 - (intOf vi).toNat)
  case atStart => exact H0.out
  case round =>
    obtain ⟨i, hi', rfl, hG, hbr⟩ := hrel
    clear H0
    rename World => wr
    obtain ⟨oa, oc, rfl⟩ := hG.slice
    have hLn : ([be4 1, Cn] ++ ((List.range 265).map f).take i).length = 2 + i := by rw [List.length_append, map_len f 265 i hi']; rfl
    rw [hLn] at hG ⊢
    obtain ⟨hb14, hc4⟩ := H14.out
    have hbw := hb14.trans (hbr.mono hb14.size)
    by_cases hlt : i < 265
    · have hii : (i : Int) < 265 := by omega
      have z_i : (0 : Int) ≤ (i : Int) := Int.natCast_nonneg _
      have hbd : Below wr.heap.size wr wr.drew := (Below.refl _ _).drew
      have hpi := fun y (hb : Below wr.heap.size wr y) => HPp.out y (hbw.trans (hb.mono hbw.size)) i (by omega)
      obtain ⟨us, hown, htx, hap⟩ := hG.ex
      rw [hLn] at hown
      obtain ⟨I, hI⟩ : ∃ I : Nat, I = i + 1 := ⟨_, rfl⟩
      have e_I : (i : Int) + 1 = (I : Int) := by omega
      have s_I : IntKind.i64.wrap (I : Int) = (I : Int) := by rw [IntKind.wrap_i64]; omega
      obtain ⟨D, hD⟩ : ∃ D, D = el ds i := ⟨_, rfl⟩
      have hDW : D ≤ 1 := by rw [hD]; exact HH0.out.2.2.2.1 i
      have s_D : IntKind.i64.wrap (D : Int) = (D : Int) := by rw [IntKind.wrap_i64]; omega
      have ci := keep_cell (hc4 i hlt) hbr
      rw [← hD] at ci
      have hfi : chN HH (preL id q) i 0 D (lmX HH (preL id q) i 255 seed) = f i := by rw [hD]; exact HH0.out.2.2.1 i
      have hcc := fun y (hb : Below wr.heap.size wr y) yv (rz : Row .u8 256 y yv (lmX HH (preL id q) i 255 seed)) (tz : Tidy yv) => HC.out y (hbw.trans (hb.mono hbw.size)) i D hlt hDW yv _ rz tz (HH0.out.1 i)
      rw [hfi] at hcc
      have hS0 : wr.drew.cell? ⟨b3, f3 + i, none⟩ = some (.int .u32 (D : Int)) := ci
      have hb3w : b3 < w4.heap.size := World.block_lt_of_cell? _ _ (hc4 i hlt)
      have HK := hide (And.intro hI (And.intro hbr (And.intro hlt (And.intro hbd (And.intro hown (And.intro htx (And.intro hap (And.intro hLn (And.intro hb3w (And.intro hD hbw))))))))))
      clear hI hbr hlt hown htx hap hG hbd hLn hb3w hD hfi hbw hb14 hc4 hDW
      go_wp2
      go_region_held3 (fun y => y.cell? ⟨b3, f3 + i, none⟩ = some (.int .u32 (D : Int))) (first | exact hS0 | exact hS1 | exact hS2 | exact hS3 | exact hS7) (first
        | (go_at_call 84; refine (hpi _ HK.out.2.2.2.1).mono ?_; rintro e z1 ⟨v1, rfl, r1, n1, hb1⟩; have t1 := new_ntidy r1 (by have := HH0.out.1 i; omega); have hbz := keep_trans HK.out.2.2.2.1 hb1; obtain ⟨a1, c1, rfl, _⟩ := r1.opens (HH0.out.1 i); have hS1 := keep_cell ci hbz)
        | (go_at_call 87; refine (hcc _ hbz _ r1 t1).mono ?_; rintro e z2 ⟨v2, rfl, r2, t2, n2, hb2⟩; obtain ⟨a2, c2, rfl, _⟩ := r2.opens (N := 32) (by rw [← HH0.out.2.2.1]; exact HH0.out.2.1 i); have hS2 := keep_cell ci (keep_trans hbz hb2); have hS3 := keep_cell ci (keep_trans (keep_trans hbz hb2) (keep_alloc z2 (.cells #[.slice a2 32 c2] 23))))
        | (refine step_append_lies _ (by rfl) _ _ 48 (by rfl) w4.heap.size 23 i0 (.slice none 0 0) 1 24 Tryz.underlying48 hi0 hz0 hz1 hz2 rfl (by decide) _ (2 + i) us (by rfl) (own_grT HK.out.2.2.2.2.1 (keep_trans (keep_trans hbz hb2) (keep_alloc z2 (.cells #[.slice a2 32 c2] 23)))) ⟨z2.heap.size, 0, none⟩ 1 1 [.slice a2 32 c2] (by rfl) rfl (cell_one0 _ _ _) (by simp [Value.oneCell']) (by decide) (by unfold maxLen; have := HK.out.2.2.1; omega) (by have := HK.out.2.2.1; omega) (by have h1 := HK.out.2.1.size; have h2 := (keep_trans hbz hb2).size; rw [World.size_alloc]; omega) _ rfl ?_; intro g7 cap7 w7 how7 hg7 hl7 hs7; have hS7 := hg7.cell hS3 (fun e => by have h1 := (HK.out.2.2.2.2.1.lt b3 e.symm).1; have h2 := HK.out.2.2.2.2.2.2.2.2.1; omega)))
      all_goals
        go_wp2
        obtain ⟨hI, hbr, hlt, hbd, hown, htx, hap, hLn, hb3w, hD, hbw⟩ := HK.out
        obtain ⟨hX, hY, hfi, hdsb, hdsl'⟩ := HH0.out
        have hb2z := keep_trans hbz hb2
        have hb3z := keep_trans hb2z (keep_alloc z2 (.cells #[.slice a2 32 c2] 23))
        have hnew : New wr.heap.size (.slice a2 32 c2) := by
          rcases n2 with h | h
          · exact h.mono hbz.size
          · rw [h]; exact n1.mono hbd.size
        have r2' := r2.below (keep_alloc z2 (.cells #[.slice a2 32 c2] 23))
        have hfl : (f i).length = 32 := by rw [← hfi]; exact hY i
        have aU := apart_new hown r2' (by rw [hfl]; decide) hnew
        have hgr := GrT.push (ls := [be4 1, Cn] ++ ((List.range 265).map f).take i) (x := f i) (us := us) (vo := .slice oa (2 + i) oc) (htx.below hb3z) (fun u hu => (hap u hu).below hb3z.size) r2' t2 aU (by rw [hLn]; exact how7) hg7 hl7
        rw [hLn, List.append_assoc, ← map_take f hlt] at hgr
        refine ⟨⟨i + 1, by omega, vint (by omega), hgr, (hbr.trans (hb3z.mono hbr.size)).grown hg7 (Nat.le_trans hbr.size hb3z.size) (fun k hk => (hown.lt k hk).1)⟩, by simp [intOf]; omega⟩
    · obtain rfl : i = 265 := by omega
      rw [List.take_of_length_le (l := (List.range 265).map f) (by simp)] at hG
      have hky := HJ.out wr _ hG.rows
      have HK := hide hbw
      clear hbw hG hbr hb14 hc4
      go_wp2_with (first | (go_at_call 31; refine hky.mono ?_; rintro e w9 ⟨v9, rfl, o9, hb9⟩) | fail)
      go_ret2
      exact ⟨_, rfl, o9.row, (o9.mono HK.out.size).new, HK.out.trans (hb9.mono HK.out.size)⟩
set_option maxHeartbeats 8000000 in
set_option maxRecDepth 100000 in
theorem rsgn_2 (id seed text : List Nat) (q : Nat) (idv sv tv : Value) (w : World) (hi : Row .u8 256 w idv id) (ti : Tidy idv) (hs : Row .u8 256 w sv seed) (ts : Tidy sv) (ht : Row .u8 256 w tv text) (tt : Tidy tv) (hq : q < 4294967296) (hl : id.length = 16) (hsl : seed.length = 32) (htl : text.length ≤ 10000) :
    Calls Tryz.prog 55 #[.int .i64 2, idv, .int .u32 (q : Int), sv, tv] w fun e w' => ∃ v, e = .returned (.tuple #[v, .int .i64 0]) ∧ Row .u8 256 w' v (sgnH shaL (preL id q) 2 (digsL 2 128 5 6 (digH shaL (preL id q) (lmCn shaL (preL id q) seed) text)) seed) ∧ New w.heap.size v ∧ Below w.heap.size w w' := by
  have hw := rwrong_any 2 id seed idv sv w hi hs
  rw [show wrgC 2 id.length seed.length = 0 by rw [hl, hsl]; decide] at hw
  obtain ⟨ia, ic, rfl, _⟩ := hi.opens hl
  obtain ⟨sa, sc, rfl, _⟩ := hs.opens hsl
  obtain ⟨ta, tc, rfl, _⟩ := ht.opens rfl
  have hk := fun y => rkind_ok y Kd.k2
  have hp := fun y (hb : Below w.heap.size w y) (i : Nat) (h : i < 65536) => rpart_any id seed q i _ _ y (hi.below hb) ti (hs.below hb) ts hq h (by omega)
  have hpc := hp w (Below.refl _ _) 65533 (by decide)
  have hX : ∀ i, (lmX shaL (preL id q) i 255 seed).length = 32 := fun i => shaL_len _
  have hdg := fun y cv c (hb : Below w.heap.size w y) (rc : Row .u8 256 y cv c) (tc : Tidy cv) (hcl : c.length = 32) => rdgst_any id c text q _ cv _ y (hi.below hb) ti rc tc (ht.below hb) tt hq (by omega)
  have hdl : ∀ c, (digH shaL (preL id q) c text).length = 32 := fun c => shaL_len _
  have hds := fun y dv d (r : Row .u8 256 y dv d) (td : Tidy dv) (h : d.length = 32) => rdigs_2 d dv y r td h
  have h4 := fun y => rbe4 2 y (by decide)
  have hc := fun y (hb : Below w.heap.size w y) (i D : Nat) (h : i < 133) (hD : D ≤ 3) yv z (rz : Row .u8 256 y yv z) (tz : Tidy yv) (hz : z.length = 32) => rchain_any id z q i 0 D _ yv y (hi.below hb) ti rz tz hq (by omega) (by omega) hz (by omega)
  simp only [Nat.zero_add] at hc
  obtain ⟨Cn, hCn⟩ : ∃ c, c = lmCn shaL (preL id q) seed := ⟨_, rfl⟩
  have hCl : Cn.length = 32 := by rw [hCn]; exact shaL_len _
  have hpc' : Calls Tryz.prog 84 #[.slice ia 16 ic, .int .u32 (q : Int), .int .i64 65533, .slice sa 32 sc] w fun e w' => ∃ v, e = .returned v ∧ Row .u8 256 w' v Cn ∧ New w.heap.size v ∧ Below w.heap.size w w' := by rw [hCn]; exact hpc
  rw [← hCn]
  obtain ⟨Dg, hDg⟩ : ∃ d, d = digH shaL (preL id q) Cn text := ⟨_, rfl⟩
  have hDgl : Dg.length = 32 := by rw [hDg]; exact hdl _
  have hdg' := fun y cv (hb : Below w.heap.size w y) (rc : Row .u8 256 y cv Cn) (tc : Tidy cv) => hdg y cv Cn hb rc tc hCl
  rw [← hDg] at hdg' ⊢
  obtain ⟨ds, hdse⟩ : ∃ l, l = digsL 2 128 5 6 Dg := ⟨_, rfl⟩
  have hdsl : ds.length = 133 := by rw [hdse]; exact digs_len _
  have hdsb : ∀ i, el ds i ≤ 3 := fun i => by rw [hdse]; exact el_le_of (K := 2) (digs_lt _) i
  have hds' := fun y dv (r : Row .u8 256 y dv Dg) (td : Tidy dv) => hds y dv Dg r td hDgl
  rw [← hdse] at hds' ⊢
  have hY : ∀ i, (chN shaL (preL id q) i 0 (el ds i) (lmX shaL (preL id q) i 255 seed)).length = 32 := fun i => chN_len shaL_len i 0 _ (hX i) _
  have hsg : sgnH shaL (preL id q) 2 ds seed = be4 2 ++ (Cn ++ (sgnP shaL (preL id q) ds seed).flatten) := by unfold sgnH; rw [hCn]
  rw [hsg]
  have hfl : (sgnP shaL (preL id q) ds seed).flatten.length = 32 * 133 := by
    rw [flat_32_len _ (sgnP_32 shaL_len ds seed)]
    simp [sgnP, hdsl]
  unfold sgnP at hfl ⊢
  rw [hdsl] at hfl ⊢
  clear hsg hpc hdg hds hCn hDg hdse hdl
  generalize shaL = HH at *
  obtain ⟨i0, hi0, hz0, hz1, hz2⟩ := info_text
  obtain ⟨f, hf⟩ : ∃ f : Nat → List Nat, f = fun i => chN HH (preL id q) i 0 (el ds i) (lmX HH (preL id q) i 255 seed) := ⟨_, rfl⟩
  rw [← hf] at hfl ⊢
  have hfi : ∀ i, chN HH (preL id q) i 0 (el ds i) (lmX HH (preL id q) i 255 seed) = f i := fun i => by rw [hf]
  have hj := fun y lv (r : Rows2 y lv ([be4 2, Cn] ++ (List.range 133).map f)) => rjoin_any lv _ y r (by rw [List.flatten_append, List.length_append, hfl]; simp [be4_len, hCl])
  rw [show ([be4 2, Cn] ++ (List.range 133).map f).flatten = be4 2 ++ (Cn ++ ((List.range 133).map f).flatten) by simp] at hj
  have HH0 := hide (And.intro hX (And.intro hY (And.intro hfi (And.intro hdsb hdsl))))
  have HC := hide hc
  have HPp := hide hp
  have HJ := hide hj
  have HCl := hide (And.intro hCl hDgl)
  clear hf hX hY hfi hi ti hs ts ht tt hc hp hj hfl hdsb
  go_enter Tryz.func55, Tryz.ntmps55
  go_wp2_with (first
    | (go_at_call 83; refine hw.mono ?_; rintro e yy ⟨rfl, hy⟩; obtain rfl := hy.symm)
    | (go_at_call 77; refine (hk _).mono ?_; rintro e yy ⟨rfl, hy⟩; obtain rfl := hy.symm)
    | (go_at_call 84; refine hpc'.mono ?_; rintro e w1 ⟨v1, rfl, r1, n1, hb1⟩; have t1 := new_ntidy r1 (by have := HCl.out.1; omega); obtain ⟨a1, c1, rfl, _⟩ := r1.opens HCl.out.1)
    | (go_at_call 86; refine (hdg' _ _ hb1 r1 t1).mono ?_; rintro e w2 ⟨v2, rfl, r2, n2, hb2⟩; have t2 := new_ntidy r2 (by have := HCl.out.2; omega); obtain ⟨a2, c2, rfl, _⟩ := r2.opens HCl.out.2)
    | (go_at_call 85; refine (hds' _ _ r2 t2).mono ?_; rintro e w3 ⟨v3, rfl, o3, hb3⟩; have r3 := o3.row; obtain ⟨a3, c3, rfl, _, _, ho3⟩ := r3.opens hdsl)
    | (go_at_call 24; refine (h4 _).mono ?_; rintro e w4 ⟨v4, rfl, o4, hb4⟩; have r4 := o4.row; have t4 := o4.tidy; obtain ⟨a4, c4, rfl, _⟩ := r4.opens (be4_len _))
    | fail)
  have hb24 := keep_trans (keep_trans hb2 hb3) hb4
  have hb14 := keep_trans hb1 hb24
  have hG0 := GrT.lit2 r4 t4 (r1.below hb24) t1 (by rw [be4_len]; decide) (by have := HCl.out.1; omega)
  have hbL := keep_alloc w4 (.cells #[.slice a4 4 c4, .slice a1 32 c1] 23)
  have h0 : PsL w4 [be4 2, Cn] 133 f (.slice (some ⟨w4.heap.size, 0, none⟩) 2 2) (.int .i64 0) (w4.alloc (.cells #[.slice a4 4 c4, .slice a1 32 c1] 23)) := ⟨0, Nat.zero_le _, rfl, by simpa using hG0, hbL⟩
  have H0 := hide h0
  have r3w := r3.below hb4
  obtain ⟨b3, f3, rfl, hc3⟩ := ho3 (by decide)
  have hc4 : ∀ i, i < 133 → w4.cell? ⟨b3, f3 + i, none⟩ = some (.int .u32 (el ds i)) := fun i h => keep_cell (hc3 i h) hb4
  have H14 := hide (And.intro hb14 hc4)
  clear h0 hG0 hbL hb24 hb14 r3w hc3 ho3 r3 o3 hc4
  go_loopw [19, 20] (fun vo vi wr => PsL w4 [be4 2, Cn] 133 f vo vi wr) (fun _ vi _ => 133 - (intOf vi).toNat)
  case atStart => exact H0.out
  case round =>
    obtain ⟨i, hi', rfl, hG, hbr⟩ := hrel
    clear H0
    rename World => wr
    obtain ⟨oa, oc, rfl⟩ := hG.slice
    have hLn : ([be4 2, Cn] ++ ((List.range 133).map f).take i).length = 2 + i := by rw [List.length_append, map_len f 133 i hi']; rfl
    rw [hLn] at hG ⊢
    obtain ⟨hb14, hc4⟩ := H14.out
    have hbw := hb14.trans (hbr.mono hb14.size)
    by_cases hlt : i < 133
    · have hii : (i : Int) < 133 := by omega
      have z_i : (0 : Int) ≤ (i : Int) := Int.natCast_nonneg _
      have hbd : Below wr.heap.size wr wr.drew := (Below.refl _ _).drew
      have hpi := fun y (hb : Below wr.heap.size wr y) => HPp.out y (hbw.trans (hb.mono hbw.size)) i (by omega)
      obtain ⟨us, hown, htx, hap⟩ := hG.ex
      rw [hLn] at hown
      obtain ⟨I, hI⟩ : ∃ I : Nat, I = i + 1 := ⟨_, rfl⟩
      have e_I : (i : Int) + 1 = (I : Int) := by omega
      have s_I : IntKind.i64.wrap (I : Int) = (I : Int) := by rw [IntKind.wrap_i64]; omega
      obtain ⟨D, hD⟩ : ∃ D, D = el ds i := ⟨_, rfl⟩
      have hDW : D ≤ 3 := by rw [hD]; exact HH0.out.2.2.2.1 i
      have s_D : IntKind.i64.wrap (D : Int) = (D : Int) := by rw [IntKind.wrap_i64]; omega
      have ci := keep_cell (hc4 i hlt) hbr
      rw [← hD] at ci
      have hfi : chN HH (preL id q) i 0 D (lmX HH (preL id q) i 255 seed) = f i := by rw [hD]; exact HH0.out.2.2.1 i
      have hcc := fun y (hb : Below wr.heap.size wr y) yv (rz : Row .u8 256 y yv (lmX HH (preL id q) i 255 seed)) (tz : Tidy yv) => HC.out y (hbw.trans (hb.mono hbw.size)) i D hlt hDW yv _ rz tz (HH0.out.1 i)
      rw [hfi] at hcc
      have hS0 : wr.drew.cell? ⟨b3, f3 + i, none⟩ = some (.int .u32 (D : Int)) := ci
      have hb3w : b3 < w4.heap.size := World.block_lt_of_cell? _ _ (hc4 i hlt)
      have HK := hide (And.intro hI (And.intro hbr (And.intro hlt (And.intro hbd (And.intro hown (And.intro htx (And.intro hap (And.intro hLn (And.intro hb3w (And.intro hD hbw))))))))))
      clear hI hbr hlt hown htx hap hG hbd hLn hb3w hD hfi hbw hb14 hc4 hDW
      go_wp2
      go_region_held3 (fun y => y.cell? ⟨b3, f3 + i, none⟩ = some (.int .u32 (D : Int))) (first | exact hS0 | exact hS1 | exact hS2 | exact hS3 | exact hS7) (first
        | (go_at_call 84; refine (hpi _ HK.out.2.2.2.1).mono ?_; rintro e z1 ⟨v1, rfl, r1, n1, hb1⟩; have t1 := new_ntidy r1 (by have := HH0.out.1 i; omega); have hbz := keep_trans HK.out.2.2.2.1 hb1; obtain ⟨a1, c1, rfl, _⟩ := r1.opens (HH0.out.1 i); have hS1 := keep_cell ci hbz)
        | (go_at_call 87; refine (hcc _ hbz _ r1 t1).mono ?_; rintro e z2 ⟨v2, rfl, r2, t2, n2, hb2⟩; obtain ⟨a2, c2, rfl, _⟩ := r2.opens (N := 32) (by rw [← HH0.out.2.2.1]; exact HH0.out.2.1 i); have hS2 := keep_cell ci (keep_trans hbz hb2); have hS3 := keep_cell ci (keep_trans (keep_trans hbz hb2) (keep_alloc z2 (.cells #[.slice a2 32 c2] 23))))
        | (refine step_append_lies _ (by rfl) _ _ 48 (by rfl) w4.heap.size 23 i0 (.slice none 0 0) 1 24 Tryz.underlying48 hi0 hz0 hz1 hz2 rfl (by decide) _ (2 + i) us (by rfl) (own_grT HK.out.2.2.2.2.1 (keep_trans (keep_trans hbz hb2) (keep_alloc z2 (.cells #[.slice a2 32 c2] 23)))) ⟨z2.heap.size, 0, none⟩ 1 1 [.slice a2 32 c2] (by rfl) rfl (cell_one0 _ _ _) (by simp [Value.oneCell']) (by decide) (by unfold maxLen; have := HK.out.2.2.1; omega) (by have := HK.out.2.2.1; omega) (by have h1 := HK.out.2.1.size; have h2 := (keep_trans hbz hb2).size; rw [World.size_alloc]; omega) _ rfl ?_; intro g7 cap7 w7 how7 hg7 hl7 hs7; have hS7 := hg7.cell hS3 (fun e => by have h1 := (HK.out.2.2.2.2.1.lt b3 e.symm).1; have h2 := HK.out.2.2.2.2.2.2.2.2.1; omega)))
      all_goals
        go_wp2
        obtain ⟨hI, hbr, hlt, hbd, hown, htx, hap, hLn, hb3w, hD, hbw⟩ := HK.out
        obtain ⟨hX, hY, hfi, hdsb, hdsl'⟩ := HH0.out
        have hb2z := keep_trans hbz hb2
        have hb3z := keep_trans hb2z (keep_alloc z2 (.cells #[.slice a2 32 c2] 23))
        have hnew : New wr.heap.size (.slice a2 32 c2) := by
          rcases n2 with h | h
          · exact h.mono hbz.size
          · rw [h]; exact n1.mono hbd.size
        have r2' := r2.below (keep_alloc z2 (.cells #[.slice a2 32 c2] 23))
        have hfl : (f i).length = 32 := by rw [← hfi]; exact hY i
        have aU := apart_new hown r2' (by rw [hfl]; decide) hnew
        have hgr := GrT.push (ls := [be4 2, Cn] ++ ((List.range 133).map f).take i) (x := f i) (us := us) (vo := .slice oa (2 + i) oc) (htx.below hb3z) (fun u hu => (hap u hu).below hb3z.size) r2' t2 aU (by rw [hLn]; exact how7) hg7 hl7
        rw [hLn, List.append_assoc, ← map_take f hlt] at hgr
        refine ⟨⟨i + 1, by omega, vint (by omega), hgr, (hbr.trans (hb3z.mono hbr.size)).grown hg7 (Nat.le_trans hbr.size hb3z.size) (fun k hk => (hown.lt k hk).1)⟩, by simp [intOf]; omega⟩
    · obtain rfl : i = 133 := by omega
      rw [List.take_of_length_le (l := (List.range 133).map f) (by simp)] at hG
      have hky := HJ.out wr _ hG.rows
      have HK := hide hbw
      clear hbw hG hbr hb14 hc4
      go_wp2_with (first | (go_at_call 31; refine hky.mono ?_; rintro e w9 ⟨v9, rfl, o9, hb9⟩) | fail)
      go_ret2
      exact ⟨_, rfl, o9.row, (o9.mono HK.out.size).new, HK.out.trans (hb9.mono HK.out.size)⟩
set_option maxHeartbeats 8000000 in
set_option maxRecDepth 100000 in
theorem rsgn_4 (id seed text : List Nat) (q : Nat) (idv sv tv : Value) (w : World) (hi : Row .u8 256 w idv id) (ti : Tidy idv) (hs : Row .u8 256 w sv seed) (ts : Tidy sv) (ht : Row .u8 256 w tv text) (tt : Tidy tv) (hq : q < 4294967296) (hl : id.length = 16) (hsl : seed.length = 32) (htl : text.length ≤ 10000) :
    Calls Tryz.prog 55 #[.int .i64 4, idv, .int .u32 (q : Int), sv, tv] w fun e w' => ∃ v, e = .returned (.tuple #[v, .int .i64 0]) ∧ Row .u8 256 w' v (sgnH shaL (preL id q) 3 (digsL 4 64 3 4 (digH shaL (preL id q) (lmCn shaL (preL id q) seed) text)) seed) ∧ New w.heap.size v ∧ Below w.heap.size w w' := by
  have hw := rwrong_any 4 id seed idv sv w hi hs
  rw [show wrgC 4 id.length seed.length = 0 by rw [hl, hsl]; decide] at hw
  obtain ⟨ia, ic, rfl, _⟩ := hi.opens hl
  obtain ⟨sa, sc, rfl, _⟩ := hs.opens hsl
  obtain ⟨ta, tc, rfl, _⟩ := ht.opens rfl
  have hk := fun y => rkind_ok y Kd.k4
  have hp := fun y (hb : Below w.heap.size w y) (i : Nat) (h : i < 65536) => rpart_any id seed q i _ _ y (hi.below hb) ti (hs.below hb) ts hq h (by omega)
  have hpc := hp w (Below.refl _ _) 65533 (by decide)
  have hX : ∀ i, (lmX shaL (preL id q) i 255 seed).length = 32 := fun i => shaL_len _
  have hdg := fun y cv c (hb : Below w.heap.size w y) (rc : Row .u8 256 y cv c) (tc : Tidy cv) (hcl : c.length = 32) => rdgst_any id c text q _ cv _ y (hi.below hb) ti rc tc (ht.below hb) tt hq (by omega)
  have hdl : ∀ c, (digH shaL (preL id q) c text).length = 32 := fun c => shaL_len _
  have hds := fun y dv d (r : Row .u8 256 y dv d) (td : Tidy dv) (h : d.length = 32) => rdigs_4 d dv y r td h
  have h4 := fun y => rbe4 3 y (by decide)
  have hc := fun y (hb : Below w.heap.size w y) (i D : Nat) (h : i < 67) (hD : D ≤ 15) yv z (rz : Row .u8 256 y yv z) (tz : Tidy yv) (hz : z.length = 32) => rchain_any id z q i 0 D _ yv y (hi.below hb) ti rz tz hq (by omega) (by omega) hz (by omega)
  simp only [Nat.zero_add] at hc
  obtain ⟨Cn, hCn⟩ : ∃ c, c = lmCn shaL (preL id q) seed := ⟨_, rfl⟩
  have hCl : Cn.length = 32 := by rw [hCn]; exact shaL_len _
  have hpc' : Calls Tryz.prog 84 #[.slice ia 16 ic, .int .u32 (q : Int), .int .i64 65533, .slice sa 32 sc] w fun e w' => ∃ v, e = .returned v ∧ Row .u8 256 w' v Cn ∧ New w.heap.size v ∧ Below w.heap.size w w' := by rw [hCn]; exact hpc
  rw [← hCn]
  obtain ⟨Dg, hDg⟩ : ∃ d, d = digH shaL (preL id q) Cn text := ⟨_, rfl⟩
  have hDgl : Dg.length = 32 := by rw [hDg]; exact hdl _
  have hdg' := fun y cv (hb : Below w.heap.size w y) (rc : Row .u8 256 y cv Cn) (tc : Tidy cv) => hdg y cv Cn hb rc tc hCl
  rw [← hDg] at hdg' ⊢
  obtain ⟨ds, hdse⟩ : ∃ l, l = digsL 4 64 3 4 Dg := ⟨_, rfl⟩
  have hdsl : ds.length = 67 := by rw [hdse]; exact digs_len _
  have hdsb : ∀ i, el ds i ≤ 15 := fun i => by rw [hdse]; exact el_le_of (K := 4) (digs_lt _) i
  have hds' := fun y dv (r : Row .u8 256 y dv Dg) (td : Tidy dv) => hds y dv Dg r td hDgl
  rw [← hdse] at hds' ⊢
  have hY : ∀ i, (chN shaL (preL id q) i 0 (el ds i) (lmX shaL (preL id q) i 255 seed)).length = 32 := fun i => chN_len shaL_len i 0 _ (hX i) _
  have hsg : sgnH shaL (preL id q) 3 ds seed = be4 3 ++ (Cn ++ (sgnP shaL (preL id q) ds seed).flatten) := by unfold sgnH; rw [hCn]
  rw [hsg]
  have hfl : (sgnP shaL (preL id q) ds seed).flatten.length = 32 * 67 := by
    rw [flat_32_len _ (sgnP_32 shaL_len ds seed)]
    simp [sgnP, hdsl]
  unfold sgnP at hfl ⊢
  rw [hdsl] at hfl ⊢
  clear hsg hpc hdg hds hCn hDg hdse hdl
  generalize shaL = HH at *
  obtain ⟨i0, hi0, hz0, hz1, hz2⟩ := info_text
  obtain ⟨f, hf⟩ : ∃ f : Nat → List Nat, f = fun i => chN HH (preL id q) i 0 (el ds i) (lmX HH (preL id q) i 255 seed) := ⟨_, rfl⟩
  rw [← hf] at hfl ⊢
  have hfi : ∀ i, chN HH (preL id q) i 0 (el ds i) (lmX HH (preL id q) i 255 seed) = f i := fun i => by rw [hf]
  have hj := fun y lv (r : Rows2 y lv ([be4 3, Cn] ++ (List.range 67).map f)) => rjoin_any lv _ y r (by rw [List.flatten_append, List.length_append, hfl]; simp [be4_len, hCl])
  rw [show ([be4 3, Cn] ++ (List.range 67).map f).flatten = be4 3 ++ (Cn ++ ((List.range 67).map f).flatten) by simp] at hj
  have HH0 := hide (And.intro hX (And.intro hY (And.intro hfi (And.intro hdsb hdsl))))
  have HC := hide hc
  have HPp := hide hp
  have HJ := hide hj
  have HCl := hide (And.intro hCl hDgl)
  clear hf hX hY hfi hi ti hs ts ht tt hc hp hj hfl hdsb
  go_enter Tryz.func55, Tryz.ntmps55
  go_wp2_with (first
    | (go_at_call 83; refine hw.mono ?_; rintro e yy ⟨rfl, hy⟩; obtain rfl := hy.symm)
    | (go_at_call 77; refine (hk _).mono ?_; rintro e yy ⟨rfl, hy⟩; obtain rfl := hy.symm)
    | (go_at_call 84; refine hpc'.mono ?_; rintro e w1 ⟨v1, rfl, r1, n1, hb1⟩; have t1 := new_ntidy r1 (by have := HCl.out.1; omega); obtain ⟨a1, c1, rfl, _⟩ := r1.opens HCl.out.1)
    | (go_at_call 86; refine (hdg' _ _ hb1 r1 t1).mono ?_; rintro e w2 ⟨v2, rfl, r2, n2, hb2⟩; have t2 := new_ntidy r2 (by have := HCl.out.2; omega); obtain ⟨a2, c2, rfl, _⟩ := r2.opens HCl.out.2)
    | (go_at_call 85; refine (hds' _ _ r2 t2).mono ?_; rintro e w3 ⟨v3, rfl, o3, hb3⟩; have r3 := o3.row; obtain ⟨a3, c3, rfl, _, _, ho3⟩ := r3.opens hdsl)
    | (go_at_call 24; refine (h4 _).mono ?_; rintro e w4 ⟨v4, rfl, o4, hb4⟩; have r4 := o4.row; have t4 := o4.tidy; obtain ⟨a4, c4, rfl, _⟩ := r4.opens (be4_len _))
    | fail)
  have hb24 := keep_trans (keep_trans hb2 hb3) hb4
  have hb14 := keep_trans hb1 hb24
  have hG0 := GrT.lit2 r4 t4 (r1.below hb24) t1 (by rw [be4_len]; decide) (by have := HCl.out.1; omega)
  have hbL := keep_alloc w4 (.cells #[.slice a4 4 c4, .slice a1 32 c1] 23)
  have h0 : PsL w4 [be4 3, Cn] 67 f (.slice (some ⟨w4.heap.size, 0, none⟩) 2 2) (.int .i64 0) (w4.alloc (.cells #[.slice a4 4 c4, .slice a1 32 c1] 23)) := ⟨0, Nat.zero_le _, rfl, by simpa using hG0, hbL⟩
  have H0 := hide h0
  have r3w := r3.below hb4
  obtain ⟨b3, f3, rfl, hc3⟩ := ho3 (by decide)
  have hc4 : ∀ i, i < 67 → w4.cell? ⟨b3, f3 + i, none⟩ = some (.int .u32 (el ds i)) := fun i h => keep_cell (hc3 i h) hb4
  have H14 := hide (And.intro hb14 hc4)
  clear h0 hG0 hbL hb24 hb14 r3w hc3 ho3 r3 o3 hc4
  go_loopw [19, 20] (fun vo vi wr => PsL w4 [be4 3, Cn] 67 f vo vi wr) (fun _ vi _ => 67 - (intOf vi).toNat)
  case atStart => exact H0.out
  case round =>
    obtain ⟨i, hi', rfl, hG, hbr⟩ := hrel
    clear H0
    rename World => wr
    obtain ⟨oa, oc, rfl⟩ := hG.slice
    have hLn : ([be4 3, Cn] ++ ((List.range 67).map f).take i).length = 2 + i := by rw [List.length_append, map_len f 67 i hi']; rfl
    rw [hLn] at hG ⊢
    obtain ⟨hb14, hc4⟩ := H14.out
    have hbw := hb14.trans (hbr.mono hb14.size)
    by_cases hlt : i < 67
    · have hii : (i : Int) < 67 := by omega
      have z_i : (0 : Int) ≤ (i : Int) := Int.natCast_nonneg _
      have hbd : Below wr.heap.size wr wr.drew := (Below.refl _ _).drew
      have hpi := fun y (hb : Below wr.heap.size wr y) => HPp.out y (hbw.trans (hb.mono hbw.size)) i (by omega)
      obtain ⟨us, hown, htx, hap⟩ := hG.ex
      rw [hLn] at hown
      obtain ⟨I, hI⟩ : ∃ I : Nat, I = i + 1 := ⟨_, rfl⟩
      have e_I : (i : Int) + 1 = (I : Int) := by omega
      have s_I : IntKind.i64.wrap (I : Int) = (I : Int) := by rw [IntKind.wrap_i64]; omega
      obtain ⟨D, hD⟩ : ∃ D, D = el ds i := ⟨_, rfl⟩
      have hDW : D ≤ 15 := by rw [hD]; exact HH0.out.2.2.2.1 i
      have s_D : IntKind.i64.wrap (D : Int) = (D : Int) := by rw [IntKind.wrap_i64]; omega
      have ci := keep_cell (hc4 i hlt) hbr
      rw [← hD] at ci
      have hfi : chN HH (preL id q) i 0 D (lmX HH (preL id q) i 255 seed) = f i := by rw [hD]; exact HH0.out.2.2.1 i
      have hcc := fun y (hb : Below wr.heap.size wr y) yv (rz : Row .u8 256 y yv (lmX HH (preL id q) i 255 seed)) (tz : Tidy yv) => HC.out y (hbw.trans (hb.mono hbw.size)) i D hlt hDW yv _ rz tz (HH0.out.1 i)
      rw [hfi] at hcc
      have hS0 : wr.drew.cell? ⟨b3, f3 + i, none⟩ = some (.int .u32 (D : Int)) := ci
      have hb3w : b3 < w4.heap.size := World.block_lt_of_cell? _ _ (hc4 i hlt)
      have HK := hide (And.intro hI (And.intro hbr (And.intro hlt (And.intro hbd (And.intro hown (And.intro htx (And.intro hap (And.intro hLn (And.intro hb3w (And.intro hD hbw))))))))))
      clear hI hbr hlt hown htx hap hG hbd hLn hb3w hD hfi hbw hb14 hc4 hDW
      go_wp2
      go_region_held3 (fun y => y.cell? ⟨b3, f3 + i, none⟩ = some (.int .u32 (D : Int))) (first | exact hS0 | exact hS1 | exact hS2 | exact hS3 | exact hS7) (first
        | (go_at_call 84; refine (hpi _ HK.out.2.2.2.1).mono ?_; rintro e z1 ⟨v1, rfl, r1, n1, hb1⟩; have t1 := new_ntidy r1 (by have := HH0.out.1 i; omega); have hbz := keep_trans HK.out.2.2.2.1 hb1; obtain ⟨a1, c1, rfl, _⟩ := r1.opens (HH0.out.1 i); have hS1 := keep_cell ci hbz)
        | (go_at_call 87; refine (hcc _ hbz _ r1 t1).mono ?_; rintro e z2 ⟨v2, rfl, r2, t2, n2, hb2⟩; obtain ⟨a2, c2, rfl, _⟩ := r2.opens (N := 32) (by rw [← HH0.out.2.2.1]; exact HH0.out.2.1 i); have hS2 := keep_cell ci (keep_trans hbz hb2); have hS3 := keep_cell ci (keep_trans (keep_trans hbz hb2) (keep_alloc z2 (.cells #[.slice a2 32 c2] 23))))
        | (refine step_append_lies _ (by rfl) _ _ 48 (by rfl) w4.heap.size 23 i0 (.slice none 0 0) 1 24 Tryz.underlying48 hi0 hz0 hz1 hz2 rfl (by decide) _ (2 + i) us (by rfl) (own_grT HK.out.2.2.2.2.1 (keep_trans (keep_trans hbz hb2) (keep_alloc z2 (.cells #[.slice a2 32 c2] 23)))) ⟨z2.heap.size, 0, none⟩ 1 1 [.slice a2 32 c2] (by rfl) rfl (cell_one0 _ _ _) (by simp [Value.oneCell']) (by decide) (by unfold maxLen; have := HK.out.2.2.1; omega) (by have := HK.out.2.2.1; omega) (by have h1 := HK.out.2.1.size; have h2 := (keep_trans hbz hb2).size; rw [World.size_alloc]; omega) _ rfl ?_; intro g7 cap7 w7 how7 hg7 hl7 hs7; have hS7 := hg7.cell hS3 (fun e => by have h1 := (HK.out.2.2.2.2.1.lt b3 e.symm).1; have h2 := HK.out.2.2.2.2.2.2.2.2.1; omega)))
      all_goals
        go_wp2
        obtain ⟨hI, hbr, hlt, hbd, hown, htx, hap, hLn, hb3w, hD, hbw⟩ := HK.out
        obtain ⟨hX, hY, hfi, hdsb, hdsl'⟩ := HH0.out
        have hb2z := keep_trans hbz hb2
        have hb3z := keep_trans hb2z (keep_alloc z2 (.cells #[.slice a2 32 c2] 23))
        have hnew : New wr.heap.size (.slice a2 32 c2) := by
          rcases n2 with h | h
          · exact h.mono hbz.size
          · rw [h]; exact n1.mono hbd.size
        have r2' := r2.below (keep_alloc z2 (.cells #[.slice a2 32 c2] 23))
        have hfl : (f i).length = 32 := by rw [← hfi]; exact hY i
        have aU := apart_new hown r2' (by rw [hfl]; decide) hnew
        have hgr := GrT.push (ls := [be4 3, Cn] ++ ((List.range 67).map f).take i) (x := f i) (us := us) (vo := .slice oa (2 + i) oc) (htx.below hb3z) (fun u hu => (hap u hu).below hb3z.size) r2' t2 aU (by rw [hLn]; exact how7) hg7 hl7
        rw [hLn, List.append_assoc, ← map_take f hlt] at hgr
        refine ⟨⟨i + 1, by omega, vint (by omega), hgr, (hbr.trans (hb3z.mono hbr.size)).grown hg7 (Nat.le_trans hbr.size hb3z.size) (fun k hk => (hown.lt k hk).1)⟩, by simp [intOf]; omega⟩
    · obtain rfl : i = 67 := by omega
      rw [List.take_of_length_le (l := (List.range 67).map f) (by simp)] at hG
      have hky := HJ.out wr _ hG.rows
      have HK := hide hbw
      clear hbw hG hbr hb14 hc4
      go_wp2_with (first | (go_at_call 31; refine hky.mono ?_; rintro e w9 ⟨v9, rfl, o9, hb9⟩) | fail)
      go_ret2
      exact ⟨_, rfl, o9.row, (o9.mono HK.out.size).new, HK.out.trans (hb9.mono HK.out.size)⟩
end Go.Proofs.YtogiballdmgcpaaGreatDoor
