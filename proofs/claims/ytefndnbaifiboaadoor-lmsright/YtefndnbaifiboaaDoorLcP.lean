/- Leaves that sign once, the program's own: Public. -/
import Derived.Test.YtefndnbaifiboaaDoorLcL
import Derived.Test.YtefndnbaifiboaaDoorPApp
import Derived.Test.YtefndnbaifiboaaDoorLmC
import Derived.Deep.AppendLies
import Derived.Test.YtefndnbaifiboaaDoorTpM
import Derived.Deep.RegionHeld3
namespace Go.Proofs.YtefndnbaifiboaaDoor
open Go.RowKit
set_option linter.unusedVariables false
set_option linter.unusedSimpArgs false

/-- where the loop over the parts stands -/
def PuL (w2 : World) (H N : Nat) (f : Nat → List Nat) (vi : Value) (wr : World) : Prop := ∃ i : Nat, i ≤ N ∧ vi = .int .i64 (i : Int) ∧ UpS wr H N i f ∧ But H w2 wr
theorem PuL.next {w2 wr y : World} {H N i : Nat} {v : Value} {f : Nat → List Nat} (hU : UpS wr H N i f) (hb : But H w2 wr) (kb : Below wr.heap.size wr y) (hi : i < N) (hv : Row .u8 256 y v (f i)) (tv : Tidy v) (hn : ∀ q, v.ownBlock = some q → q ≠ H) :
    PuL w2 H N f (.int .i64 ((i + 1 : Nat) : Int)) (y.setCell ⟨H, i, none⟩ v) :=
  ⟨i + 1, hi, rfl, (hU.below kb).store hi hv tv hn, (hb.trans (But.of_below kb)).setCell _ _⟩
theorem PuL.start {w2 : World} {H N : Nat} (f : Nat → List Nat) (hU : UpS w2 H N 0 f) : PuL w2 H N f (.int .i64 0) w2 := ⟨0, Nat.zero_le _, rfl, hU, But.refl _ _⟩
theorem map_flat32 {f : Nat → List Nat} {N : Nat} (h : ∀ i, (f i).length = 32) : ((List.range N).map f).flatten.length = 32 * N := by
  rw [flat_32_len _ (fun p hp => by obtain ⟨i, _, rfl⟩ := List.mem_map.1 hp; exact h i)]
  simp
theorem cpub_no (x : Int) (q : Nat) (ia sa : Option Addr) (il ic sl sc : Nat) (w : World) (h : NoK x) :
    Calls Tryd.prog 54 #[.int .i64 x, .slice ia il ic, .int .u32 (q : Int), .slice sa sl sc] w fun e w' => e = .returned (.tuple #[.slice none 0 0, .int .i64 9]) ∧ Below w.heap.size w w' := by
  have hk := csec_no x q ia sa il ic sl sc w h
  clear h
  go_enter Tryd.func54, Tryd.ntmps54
  go_wp2_with (first
    | (go_at_call 36; refine hk.mono ?_; rintro e w1 ⟨rfl, g1⟩)
    | fail)
  go_ret2
  exact ⟨rfl, keep_trans g1 (keep_alloc _ _)⟩
theorem cpub_size {k n m s c P : Nat} (h : Kd k n m s c) (hP : P = n + m) (q : Nat) (id : List Nat) (idv : Value) (sa : Option Addr) (sl sc : Nat) (w : World) (hi : Row .u8 256 w idv id) (ti : Tidy idv) (hq : q < 4294967296) (hl : ¬ (id.length = 16 ∧ sl = 32)) :
    Calls Tryd.prog 54 #[.int .i64 (k : Int), idv, .int .u32 (q : Int), .slice sa sl sc] w fun e w' => e = .returned (.tuple #[.slice none 0 0, .int .i64 14]) ∧ Below w.heap.size w w' := by
  have hk : Calls Tryd.prog 36 #[.int .i64 (k : Int), idv, .int .u32 (q : Int), .slice sa sl sc] w fun e w' => e = .returned (.tuple #[.agg #[.int .i64 0, .int .i64 0, .int .i64 0, .int .u64 0, .slice none 0 0], .int .i64 14]) ∧ Below w.heap.size w w' := by
    by_cases h1 : id.length = 16
    · exact csec_seed h hP q id idv sa sl sc w hi ti h1 hq (fun h2 => hl ⟨h1, h2⟩)
    · obtain ⟨ia, ic, rfl, _⟩ := hi.opens rfl
      exact csec_size h hP q ia sa id.length ic sl sc w h1
  obtain ⟨ia, ic, rfl, _⟩ := hi.opens rfl
  clear h hP hl hi
  go_enter Tryd.func54, Tryd.ntmps54
  go_wp2_with (first
    | (go_at_call 36; refine hk.mono ?_; rintro e w1 ⟨rfl, g1⟩)
    | fail)
  go_ret2
  exact ⟨rfl, keep_trans g1 (keep_alloc _ _)⟩
def pu8lt : List Lt := [(0, some 35, [12]), (0, some 36, [13]), (0, some 37, [10]), (0, some 38, [13]), (0, some 39, [10]), (0, some 40, [13]), (32, some 41, [40]), (0, some 42, [3]), (208, some 43, [39, 41, 42]), (0, some 44, [10]), (512, some 45, [44]), (1280, some 46, [45]), (2316, some 47, [37, 38, 43, 46]), (8191, some 48, [35, 36]), (16383, none, [48, 47])]
theorem pu8reg : Reg (opsA (cRA (cBA (cLA (cRA (cRA (cLpA (cBA (cRA (cLA (cRA (cRA (cRA (cRA (Tryd.f54.body.getD .skip))))))))))))))) pu8lt := ⟨by kernel_rfl, by kernel_rfl⟩
set_option maxHeartbeats 4000000 in
set_option maxRecDepth 100000 in
theorem cpub_ok {k n m s c P : Nat} (h : Kd k n m s c) (hP : P = n + m) (q : Nat) (id seed : List Nat) (idv sv : Value) (w : World) (hT : Roots w) (hi : Row .u8 256 w idv id) (ti : Tidy idv) (hs : Row .u8 256 w sv seed) (ts : Tidy sv) (hl : id.length = 16) (hsl : seed.length = 32) (hq : q < 4294967296) :
    Calls Tryd.prog 54 #[.int .i64 (k : Int), idv, .int .u32 (q : Int), sv] w fun e w' => ∃ v, e = .returned (.tuple #[v, .int .i64 0]) ∧ Own 5 .u8 256 w' w.heap.size v (pubH shaL (preL id q) (2 ^ k - 1) P seed) ∧ Below w.heap.size w w' := by
  obtain ⟨sa, sc, rfl, _⟩ := hs.opens hsl
  have hsec := csec_ok h hP q id idv sa sc w hi ti hl hq
  obtain ⟨ia, ic, rfl, _⟩ := hi.opens hl
  obtain ⟨p1, p2, p3, p4, p5, p6, p7⟩ := h.pos
  obtain ⟨q1, q2, q3, q4, q5, q6, q7⟩ := h.more
  have htop := fun y => ktop_ok h hP y
  have hP1 : P ≤ 265 := by omega
  obtain ⟨M, hM⟩ : ∃ M, M = 2 ^ k - 1 := ⟨_, rfl⟩
  rw [← hM] at htop q3 ⊢
  have hpl : (preL id q).length = 20 := by rw [len_pre, hl]
  obtain ⟨pre, hpre⟩ : ∃ x, x = preL id q := ⟨_, rfl⟩
  rw [← hpre] at hsec hpl ⊢
  have hdr := fun (i : Nat) (hi' : i < 65536) y av (hTy : Roots y) (ra : Row .u8 256 y av pre) (ta : Tidy av) (rs : Row .u8 256 y (.slice sa 32 sc) seed) => cdrawn_any k P s c i pre seed av _ y hTy ra ta rs ts hi' (by omega)
  have hal : ∀ (i : Nat) (hi' : i < 65536) (y0 : List Nat) (hy0 : y0.length = 32) y av yv (hTy : Roots y) (ra : Row .u8 256 y av pre) (ta : Tidy av) (ry : Row .u8 256 y yv y0) (ty : Tidy yv), Calls Tryd.prog 40 #[.agg #[.int .i64 (k : Int), .int .i64 (P : Int), .int .i64 (s : Int), .int .u64 (c : Int), av], .int .i64 (i : Int), yv, .int .u32 0, .int .u32 (M : Int)] y fun e w' => ∃ v, e = .returned v ∧ Row .u8 256 w' v (chN shaL pre i 0 M y0) ∧ Tidy v ∧ (New y.heap.size v ∨ v = yv) ∧ Below y.heap.size y w' := fun i hi' y0 hy0 y av yv hTy ra ta ry ty => by
    have := calong_any k P s c i 0 M pre y0 av yv y hTy ra ta ry ty hi' (by omega) hy0 (by omega)
    rw [Nat.zero_add] at this
    exact this
  have hsm := fun y av mv ps (hTy : Roots y) (ra : Row .u8 256 y av pre) (ta : Tidy av) (rm : Rows2 y mv ps) (hps : ps.length ≤ 265) (hfl : ps.flatten.length ≤ 32 * 265) => csum_any k P s c 32896 pre ps av mv y hTy ra ta rm (by decide) (by omega) (by omega)
  have hX : ∀ i, (lmX shaL pre i 255 seed).length = 32 := fun i => shaL_len _
  have hC : ∀ i, (chN shaL pre i 0 M (lmX shaL pre i 255 seed)).length = 32 := fun i => chN_len shaL_len i 0 _ (hX i) _
  unfold pubH keyH endsP
  generalize shaL = HH at *
  obtain ⟨f, hf⟩ : ∃ f : Nat → List Nat, f = fun i => chN HH pre i 0 M (lmX HH pre i 255 seed) := ⟨_, rfl⟩
  rw [← hf]
  have hfi : ∀ i, chN HH pre i 0 M (lmX HH pre i 255 seed) = f i := fun i => by rw [hf]
  have hfl : ((List.range P).map f).flatten.length ≤ 32 * 265 := by rw [map_flat32 (fun i => by rw [← hfi]; exact hC i)]; omega
  have hps : ((List.range P).map f).length ≤ 265 := by simpa using hP1
  obtain ⟨i0, hi0, hz0, hz1, hz2⟩ := info_text
  have HX := hide (And.intro hX (And.intro hfi (And.intro hC (And.intro hP1 p1))))
  have HS := hide (And.intro hs (And.intro hT (And.intro hfl hps)))
  have hsmH := hide hsm
  have hdrH := hide hdr
  have halH := hide hal
  clear hX hfi hC hs hT hfl hps hsm hdr hal hM hpre hP h hf hi p1 q1 q2 q4 q5 p5
  go_enter Tryd.func54, Tryd.ntmps54
  go_wp2_with (first
    | (go_at_call 36; refine hsec.mono ?_; rintro e w1 ⟨av, rfl, oa, g1⟩; obtain ⟨aa, ac, rfl, _⟩ := oa.row.opens hpl; have bx := BxL.new w1 (.int .i64 (k : Int)) (.int .i64 (P : Int)) (.int .i64 (s : Int)) (.int .u64 (c : Int)) (.slice aa 20 ac); have cP : (w1.alloc (.cells #[.int .i64 (k : Int), .int .i64 (P : Int), .int .i64 (s : Int), .int .u64 (c : Int), .slice aa 20 ac] 69)).cell? ⟨w1.heap.size, 1, none⟩ = some (.int .i64 (P : Int)) := bx.range 1 _ rfl)
    | (at_make; refine wpList_make_full _ rfl _ _ 40 rfl (w1.heap.size + 1) 25 i0 (.slice none 0 0) 1 Tryd.underlying40 hi0 hz0 hz1 _ _ _ _ P rfl rfl rfl rfl (by rw [hz2]; have := HX.out.2.2.2.1; omega) (by have := HX.out.2.2.2.1; unfold maxLen; omega) (by rw [World.size_alloc]; exact Nat.le_refl _) ?_; intro w2 hown hgrow; have hbg := (Below.refl (w1.alloc (.cells #[.int .i64 (k : Int), .int .i64 (P : Int), .int .i64 (s : Int), .int .u64 (c : Int), .slice aa 20 ac] 69)).heap.size (w1.alloc (.cells #[.int .i64 (k : Int), .int .i64 (P : Int), .int .i64 (s : Int), .int .u64 (c : Int), .slice aa 20 ac] 69))).grown hgrow (Nat.le_refl _) (fun k h => by cases h); have bx2 := bx.below hbg; have cP2 : w2.cell? ⟨w1.heap.size, 1, none⟩ = some (.int .i64 (P : Int)) := bx2.range 1 _ rfl)
    | fail)
  have hb1 := keep_trans g1 (keep_alloc w1 (.cells #[.int .i64 (k : Int), .int .i64 (P : Int), .int .i64 (s : Int), .int .u64 (c : Int), .slice aa 20 ac] 69))
  have hU := UpS.made f hown
  have oa2 := (oa.row.below (keep_alloc w1 (.cells #[.int .i64 (k : Int), .int .i64 (P : Int), .int .i64 (s : Int), .int .u64 (c : Int), .slice aa 20 ac] 69))).below hbg
  have hb2 := keep_trans hb1 hbg
  have haw : ∀ H, H = w1.heap.size + 1 → Away H (.slice aa 20 ac) pre := fun H hH => oa.row.away (by omega)
  have hXn : ∀ H, H = w1.heap.size + 1 → w1.heap.size ≠ H ∧ w.heap.size ≤ H := fun H hH => by have := g1.size; omega
  have hHs : (w1.alloc (.cells #[.int .i64 (k : Int), .int .i64 (P : Int), .int .i64 (s : Int), .int .u64 (c : Int), .slice aa 20 ac] 69)).heap.size = w1.heap.size + 1 := by rw [World.size_alloc]
  have hXX := hXn _ hHs
  have haw2 := haw _ hHs
  have ta := oa.tidy
  generalize (w1.alloc (.cells #[.int .i64 (k : Int), .int .i64 (P : Int), .int .i64 (s : Int), .int .u64 (c : Int), .slice aa 20 ac] 69)).heap.size = H at *
  subst hHs
  generalize w1.heap.size = X at *
  have H0 := hide (PuL.start f hU)
  have HA := hide (And.intro oa2 (And.intro ta (And.intro hb2 (And.intro haw2 (And.intro bx2 hXX)))))
  go_loopw [32] (fun vi wr => PuL w2 (X + 1) P f vi wr) (fun vi _ => P - (intOf vi).toNat)
  case atStart => exact H0.out
  case round =>
    obtain ⟨i, hi', rfl, hUr, hbr⟩ := hrel
    clear H0
    rename World => wr
    obtain ⟨hX, hfi, hC, hP1, p1⟩ := HX.out
    obtain ⟨oar, ta, hb2, haw, bx2, hXH, hwH⟩ := HA.out
    obtain ⟨hs, hT, hfl, hps⟩ := HS.out
    have bxr := bx2.but hbr hXH
    have hbw := hb2.trans (hbr.below hwH hb2.size)
    have hTr := hT.below hbw
    have har := oar.but haw hbr
    by_cases hlt : i < P
    · have hiP := hlt
      have hii : (i : Int) < (P : Int) := by omega
      obtain ⟨I, hI⟩ : ∃ I : Nat, I = i + 1 := ⟨_, rfl⟩
      have e_I : (i : Int) + 1 = (I : Int) := by omega
      have s_I : IntKind.i64.wrap (I : Int) = (I : Int) := by rw [IntKind.wrap_i64]; omega
      have hsr := hs.below hbw
      have hXi := hX i
      have hCi : (f i).length = 32 := by rw [← hfi]; exact hC i
      have hdr := fun y hTy ra rs => hdrH.out i (by omega) y (.slice aa 20 ac) hTy ra ta rs
      have hal := fun y yv hTy ra ry ty => halH.out i (by omega) (lmX HH pre i 255 seed) hXi y (.slice aa 20 ac) yv hTy ra ta ry ty
      simp only [hfi] at hal
      have hbd : But (X + 1) wr wr.drew := (But.refl _ _).drew
      have kb : Below wr.heap.size wr wr.drew := (Below.refl _ _).drew
      have HK := hide (And.intro hI (And.intro hlt hbr))
      have hi6 : i < 65536 := by omega
      clear hX hfi hC hs hT hfl hps hI hlt hb2 hbw hwH hP1 hbr oar hi' haw bx2
      go_wp2
      refine at_begin (ops := opsA (cRA (cBA (cLA (cRA (cRA (cLpA (cBA (cRA (cLA (cRA (cRA (cRA (cRA (Tryd.f54.body.getD .skip))))))))))))))) (n := 15) (fun y => But (X + 1) wr y) (by kernel_rfl) (by kernel_rfl) ?_
      refine at_takeD (i := 0) (m' := 1) (d := some 35) (v := .slice (some ⟨X + 1, 0, none⟩) P P) pu8reg rfl (by decide) rfl rfl (y_moveG (wanted_free rfl) rfl rfl) hbd ?_
      simp only [Act.put, List.setIfInBounds_toArray, List.set_cons_zero, List.set_cons_succ]
      refine at_takeD (i := 1) (m' := 3) (d := some 36) (v := .int .i64 (i : Int)) pu8reg rfl (by decide) rfl rfl (y_moveG (wanted_free rfl) rfl rfl) hbd ?_
      simp only [Act.put, List.setIfInBounds_toArray, List.set_cons_zero, List.set_cons_succ]
      refine at_takeD (i := 2) (m' := 7) (d := some 37) (v := .agg #[.int .i64 (k : Int), .int .i64 (P : Int), .int .i64 (s : Int), .int .u64 (c : Int), .slice aa 20 ac]) pu8reg rfl (by decide) rfl rfl (y_rowG (cs := [.int .i64 (k : Int), .int .i64 (P : Int), .int .i64 (s : Int), .int .u64 (c : Int), .slice aa 20 ac]) (wanted_free rfl) rfl rfl Tryd.underlying69 rfl (by kernel_rfl) (fun _ h => (bxr.but h hXH).range)) hbd ?_
      simp only [Act.put, List.setIfInBounds_toArray, List.set_cons_zero, List.set_cons_succ]
      refine at_takeD (i := 3) (m' := 15) (d := some 38) (v := .int .i64 (i : Int)) pu8reg rfl (by decide) rfl rfl (y_moveG (wanted_free rfl) rfl rfl) hbd ?_
      simp only [Act.put, List.setIfInBounds_toArray, List.set_cons_zero, List.set_cons_succ]
      refine at_takeD (i := 4) (m' := 31) (d := some 39) (v := .agg #[.int .i64 (k : Int), .int .i64 (P : Int), .int .i64 (s : Int), .int .u64 (c : Int), .slice aa 20 ac]) pu8reg rfl (by decide) rfl rfl (y_rowG (cs := [.int .i64 (k : Int), .int .i64 (P : Int), .int .i64 (s : Int), .int .u64 (c : Int), .slice aa 20 ac]) (wanted_free rfl) rfl rfl Tryd.underlying69 rfl (by kernel_rfl) (fun _ h => (bxr.but h hXH).range)) hbd ?_
      simp only [Act.put, List.setIfInBounds_toArray, List.set_cons_zero, List.set_cons_succ]
      refine at_takeD (i := 5) (m' := 63) (d := some 40) (v := .int .i64 (i : Int)) pu8reg rfl (by decide) rfl rfl (y_moveG (wanted_free rfl) rfl rfl) hbd ?_
      simp only [Act.put, List.setIfInBounds_toArray, List.set_cons_zero, List.set_cons_succ]
      refine at_takeD (i := 6) (m' := 127) (d := some 41) (v := .int .u64 (i : Int)) pu8reg rfl (by decide) rfl rfl (y_convI (wanted_free rfl) rfl rfl (conv_i64u64 i (by omega))) hbd ?_
      simp only [Act.put, List.setIfInBounds_toArray, List.set_cons_zero, List.set_cons_succ]
      refine at_takeD (i := 7) (m' := 255) (d := some 42) (v := .slice sa 32 sc) pu8reg rfl (by decide) rfl rfl (y_moveG (wanted_free rfl) rfl rfl) hbd ?_
      simp only [Act.put, List.setIfInBounds_toArray, List.set_cons_zero, List.set_cons_succ]
      refine at_takeD (i := 9) (m' := 767) (d := some 44) (v := .pointer (some ⟨X, 0, none⟩)) pu8reg rfl (by decide) rfl rfl (y_fieldG (wanted_free rfl) rfl rfl (fun w => by simp [go_sem])) hbd ?_
      simp only [Act.put, List.setIfInBounds_toArray, List.set_cons_zero, List.set_cons_succ]
      refine at_takeD (i := 10) (m' := 1791) (d := some 45) (v := .agg #[.int .i64 (k : Int), .int .i64 (P : Int), .int .i64 (s : Int), .int .u64 (c : Int)]) pu8reg rfl (by decide) rfl rfl (y_rowG (cs := [.int .i64 (k : Int), .int .i64 (P : Int), .int .i64 (s : Int), .int .u64 (c : Int)]) (wanted_free rfl) rfl rfl Tryd.underlying67 rfl (by kernel_rfl) (fun _ h => (bxr.but h hXH).range4)) hbd ?_
      simp only [Act.put, List.setIfInBounds_toArray, List.set_cons_zero, List.set_cons_succ]
      refine at_one (i := 8) (m' := 2047) pu8reg (by decide) rfl ?_
      refine p_callG (args := #[.agg #[.int .i64 (k : Int), .int .i64 (P : Int), .int .i64 (s : Int), .int .u64 (c : Int), .slice aa 20 ac], .int .u64 (i : Int), .slice sa 32 sc]) (d := some 43) rfl (wanted_free rfl) rfl (by simp only [List.map_toArray, List.map_cons, List.map_nil]; rfl) rfl Tryd.call37 ((hdr wr.drew (hTr.below kb) (har.below kb) (hsr.below kb)).mono ?_)
      rintro e y11 ⟨dv, rfl, od, g11⟩
      obtain ⟨da, dc, rfl, _⟩ := od.row.opens hXi
      have td := od.tidy
      have rd := od.row
      replace kb := keep_trans kb g11
      have hb11 := but_keep hbd g11
      refine ⟨_, rfl, hb11, ?_⟩
      simp only [Act.put, List.setIfInBounds_toArray, List.set_cons_zero, List.set_cons_succ]
      refine at_one (i := 11) (m' := 4095) pu8reg (by decide) rfl ?_
      refine p_callG (args := #[.agg #[.int .i64 (k : Int), .int .i64 (P : Int), .int .i64 (s : Int), .int .u64 (c : Int)]]) (d := some 46) rfl (wanted_free rfl) rfl (by simp only [List.map_toArray, List.map_cons, List.map_nil]; rfl) rfl Tryd.call49 ((htop y11).mono ?_)
      rintro e y12 ⟨rfl, g12⟩
      replace rd := rd.below g12
      replace kb := keep_trans kb g12
      have hb12 := but_keep hb11 g12
      refine ⟨_, rfl, hb12, ?_⟩
      simp only [Act.put, List.setIfInBounds_toArray, List.set_cons_zero, List.set_cons_succ]
      refine at_one (i := 12) (m' := 8191) pu8reg (by decide) rfl ?_
      refine p_callG (args := #[.agg #[.int .i64 (k : Int), .int .i64 (P : Int), .int .i64 (s : Int), .int .u64 (c : Int), .slice aa 20 ac], .int .i64 (i : Int), .slice da 32 dc, .int .u32 0, .int .u32 (M : Int)]) (d := some 47) rfl (wanted_free rfl) rfl (by simp only [List.map_toArray, List.map_cons, List.map_nil]; rfl) rfl Tryd.call40 ((hal y12 _ (hTr.below kb) (har.below kb) rd td).mono ?_)
      rintro e y13 ⟨xv, rfl, rx, tx, nx, g13⟩
      have kc := kb
      replace kb := keep_trans kb g13
      obtain ⟨xa, xc, rfl, _⟩ := rx.opens hCi
      have hb13 := but_keep hb12 g13
      refine ⟨_, rfl, hb13, ?_⟩
      simp only [Act.put, List.setIfInBounds_toArray, List.set_cons_zero, List.set_cons_succ]
      refine at_takeD (i := 13) (m' := 16383) (d := some 48) (v := .pointer (some ⟨X + 1, i, none⟩)) pu8reg rfl (by decide) rfl rfl (y_ix0 (wanted_free rfl) rfl rfl rfl Tryd.underlying40 (by kernel_rfl) hiP) hb13 ?_
      simp only [Act.put, List.setIfInBounds_toArray, List.set_cons_zero, List.set_cons_succ]
      refine at_one (i := 14) (m' := 32767) pu8reg (by decide) rfl ?_
      have hsz := kb
      refine p_store_plain (P := Tryd.prog) rfl rfl rfl rfl rfl rfl Tryd.underlying25 rfl (by kernel_rfl) ((hUr.below kb).any hiP) ((hUr.below kb).frozen i) ?_
      have hb15 := hb13.setCell i (.slice xa 32 xc)
      refine ⟨hb15, ?_⟩
      refine at_done pu8reg (by decide) ?_
      go_wp2
      obtain ⟨hI, hlt, hbr⟩ := HK.out
      have hn : ∀ q, (Value.slice xa 32 xc).ownBlock = some q → q ≠ X + 1 := fun q hq => by
        have hl := hUr.lt
        have hz : wr.drew.heap.size = wr.heap.size := rfl
        rcases nx with nx | nx
        · have h1 := nx q hq
          have h2 := kc.size
          omega
        · rw [nx] at hq
          have h1 := od.new q hq
          omega
      have hnext := PuL.next hUr hbr kb hlt rx tx hn
      rw [← hI] at hnext
      exact ⟨hnext, by simp [intOf]; omega⟩
    · obtain rfl : i = P := by omega
      have hge : ¬ ((i : Int) < (i : Int)) := by omega
      have rr := hUr.rows (by omega)
      have hsm1 := hsmH.out wr (.slice aa 20 ac) _ ((List.range i).map f) hTr har ta rr hps hfl
      have HK := hide hbw
      clear hX hfi hC hs hT hfl hps hb2 hbw hP1 hbr oar hi' hlt rr haw bx2 hwH
      go_wp2_with (first
        | (refine wpList_load_row rfl 69 _ (by rfl) X (by rfl) _ _ _ _ bxr.here Tryd.underlying69 rfl (by kernel_rfl) ?_)
        | (go_at_call 39; refine hsm1.mono ?_; rintro e w9 ⟨v9, rfl, o9, g9⟩)
        | fail)
      go_ret2
      exact ⟨_, rfl, o9.mono HK.out.size, keep_trans HK.out g9⟩
end Go.Proofs.YtefndnbaifiboaaDoor

/- Texts that are laid into a slice of the call's own, which grows. -/
namespace Go.Proofs.YtefndnbaifiboaaDoor
open Go.RowKit
set_option linter.unusedVariables false
set_option linter.unusedSimpArgs false

/-- u lies apart from the slice vo -/
def Apart1 (w : World) (vo u : Value) : Prop := ∀ q, u.ownBlock = some q → q < w.heap.size ∧ vo.ownBlock ≠ some q
/-- vo is a slice of the call's own; the texts in it lie apart from it -/
structure GrT (w : World) (B : Nat) (vo : Value) (ls : List (List Nat)) : Prop where
  ex : ∃ us, w.ownsRow B 25 1 vo ls.length us ∧ Texts w us ls ∧ ∀ u ∈ us, Apart1 w vo u
theorem GrT.nil (w : World) (B : Nat) : GrT w B (.slice none 0 0) [] := ⟨⟨[], World.ownsRow_nil _ _ _ _, Texts.nil _, fun u h => by cases h⟩⟩
theorem GrT.rows {w : World} {B : Nat} {vo : Value} {ls : List (List Nat)} (h : GrT w B vo ls) : Rows2 w vo ls := by
  obtain ⟨us, h1, h2, _⟩ := h.ex
  exact h2.rows2 h1
theorem GrT.below {w w' : World} {B : Nat} {vo : Value} {ls : List (List Nat)} (h : GrT w B vo ls) (hb : Below w.heap.size w w') : GrT w' B vo ls := by
  obtain ⟨us, h1, h2, h3⟩ := h.ex
  refine ⟨⟨us, h1.kept (row := none) ⟨hb.os, hb.tape, hb.output, hb.size, fun k hk _ => hb.block k hk⟩ ?_, h2.below hb, fun u hu q hq => ?_⟩⟩
  · cases hvo : vo.ownBlock with
    | none => exact .inl rfl
    | some q => exact .inr (by simp)
  · obtain ⟨k1, k2⟩ := h3 u hu q hq
    exact ⟨Nat.lt_of_lt_of_le k1 hb.size, k2⟩
theorem GrT.slice {w : World} {B : Nat} {vo : Value} {ls : List (List Nat)} (h : GrT w B vo ls) : ∃ a c, vo = .slice a ls.length c := by
  obtain ⟨us, h1, _, _⟩ := h.ex
  rcases h1.2 with ⟨rfl, h0⟩ | ⟨g, cap, cur, rfl, _⟩
  · exact ⟨none, 0, by rw [h0]⟩
  · exact ⟨_, _, rfl⟩
theorem row_grownT {w w' : World} {row : Option Nat} {u : Value} {l : List Nat} (h : Row .u8 256 w u l) (hg : w.grownBy w' row) (hn : ∀ q, u.ownBlock = some q → some q ≠ row) : Row .u8 256 w' u l := by
  obtain ⟨a, cap, rfl, h1, h2, h3, h4⟩ := h
  refine ⟨a, cap, rfl, h1, h2, fun hl => ?_, h4⟩
  obtain ⟨b, off, rfl, hc⟩ := h3 hl
  refine ⟨b, off, rfl, fun i hi => hg.cell (hc i hi) (hn b (by simp [Value.ownBlock]))⟩
/-- a text more -/
theorem GrT.push {w w' : World} {B g cap : Nat} {vo u : Value} {ls : List (List Nat)} {x : List Nat} {us : List Value} (ht : Texts w us ls) (ha : ∀ u ∈ us, Apart1 w vo u) (hu : Row .u8 256 w u x) (tu : Tidy u) (au : Apart1 w vo u)
    (hown : w'.ownsRow B 25 1 (.slice (some ⟨g, 0, none⟩) (ls.length + 1) cap) (ls.length + 1) (us ++ [u])) (hg : w.grownBy w' vo.ownBlock) (hl : vo.ownBlock = some g ∨ g = w.heap.size) : GrT w' B (.slice (some ⟨g, 0, none⟩) (ls.length + 1) cap) (ls ++ [x]) := by
  have ap : ∀ v, Apart1 w vo v → Apart1 w' (.slice (some ⟨g, 0, none⟩) (ls.length + 1) cap) v := fun v hv q hq => by
    obtain ⟨k1, k2⟩ := hv q hq
    refine ⟨Nat.lt_of_lt_of_le k1 hg.size, fun e => ?_⟩
    have eg : g = q := by simpa [Value.ownBlock] using e
    rcases hl with h | h
    · exact k2 (by rw [h, eg])
    · omega
  refine ⟨⟨us ++ [u], by rw [List.length_append]; exact hown, ?_, fun v hv => ?_⟩⟩
  · have h1 : Texts w' us ls := ⟨ht.1, fun i hi => by
      obtain ⟨v, k1, k2, k3⟩ := ht.2 i hi
      exact ⟨v, k1, row_grownT k2 hg (fun q hq e => (ha v (List.mem_of_getElem? k1) q hq).2 e.symm), k3⟩⟩
    exact h1.append (Texts.one (row_grownT hu hg (fun q hq e => (au q hq).2 e.symm)) tu)
  · rcases List.mem_append.1 hv with h | h
    · exact ap v (ha v h)
    · have : v = u := by simpa using h
      rw [this]
      exact ap u au
theorem apart_new {w w' : World} {B n : Nat} {vo u : Value} {l : List Nat} {us : List Value} (hown : w.ownsRow B 25 1 vo n us) (hu : Row .u8 256 w' u l) (hl : 0 < l.length) (hn : New w.heap.size u) : Apart1 w' vo u := fun q hq =>
  ⟨hu.old hl hq, fun e => by have h1 := (hown.lt q e).2; have h2 := hn q hq; omega⟩
theorem apart_old {w w0 : World} {B n : Nat} {vo u : Value} {l : List Nat} {us : List Value} (hown : w.ownsRow B 25 1 vo n us) (hu : Row .u8 256 w0 u l) (hl : 0 < l.length) (hB : w0.heap.size ≤ B) (hw : w0.heap.size ≤ w.heap.size) : Apart1 w vo u := fun q hq =>
  ⟨Nat.lt_of_lt_of_le (hu.old hl hq) hw, fun e => by have h1 := (hown.lt q e).1; have h2 := hu.old hl hq; omega⟩
theorem Apart1.below {w w' : World} {vo u : Value} (h : Apart1 w vo u) (hs : w.heap.size ≤ w'.heap.size) : Apart1 w' vo u := fun q hq => ⟨Nat.lt_of_lt_of_le (h q hq).1 hs, (h q hq).2⟩
end Go.Proofs.YtefndnbaifiboaaDoor

/- Leaves that sign once: the document's Public. -/
namespace Go.Proofs.YtefndnbaifiboaaDoor
open Go.RowKit
set_option linter.unusedVariables false
set_option linter.unusedSimpArgs false

theorem map_take (f : Nat → List Nat) {P i : Nat} (h : i < P) : ((List.range P).map f).take (i + 1) = ((List.range P).map f).take i ++ [f i] := by
  rw [List.take_succ_eq_append_getElem (by simp; exact h)]
  simp
theorem map_len (f : Nat → List Nat) (P i : Nat) (h : i ≤ P) : (((List.range P).map f).take i).length = i := by rw [List.length_take, List.length_map, List.length_range]; omega
/-- where a loop over parts stands -/
def PbL (w : World) (P : Nat) (f : Nat → List Nat) (vo vi : Value) (wr : World) : Prop := ∃ i : Nat, i ≤ P ∧ vi = .int .i64 (i : Int) ∧ GrT wr w.heap.size vo (((List.range P).map f).take i) ∧ Below w.heap.size w wr
theorem cell_one0 (w : World) (u : Value) (t : TypeId) : ∀ j x, [u][j]? = some x → (w.alloc (.cells #[u] t)).cell? ((⟨w.heap.size, 0, none⟩ : Addr).add j) = some x := fun j x h => by
  have : j = 0 := by have := (List.getElem?_eq_some_iff.1 h).1; simp at this; exact this
  subst this
  rw [Addr.add_lit, World.cell?_alloc_at _ _ _ _ rfl]
  simpa using h
theorem own_grT {w w' : World} {B n : Nat} {vo : Value} {us : List Value} (h : w.ownsRow B 25 1 vo n us) (hb : Below w.heap.size w w') : w'.ownsRow B 25 1 vo n us := by
  refine h.kept (row := none) ⟨hb.os, hb.tape, hb.output, hb.size, fun k hk _ => hb.block k hk⟩ ?_
  cases hvo : vo.ownBlock with
  | none => exact .inl rfl
  | some q => exact .inr (by simp)
end Go.Proofs.YtefndnbaifiboaaDoor

/- Leaves that sign once: the document's Sign. -/
namespace Go.Proofs.YtefndnbaifiboaaDoor
open Go.RowKit
set_option linter.unusedVariables false
set_option linter.unusedSimpArgs false

/-- where a loop over parts stands, behind texts that are there already -/
def PsL (w : World) (pf : List (List Nat)) (P : Nat) (f : Nat → List Nat) (vo vi : Value) (wr : World) : Prop := ∃ i : Nat, i ≤ P ∧ vi = .int .i64 (i : Int) ∧ GrT wr w.heap.size vo (pf ++ ((List.range P).map f).take i) ∧ Below w.heap.size w wr
theorem GrT.lit2 {w : World} {u v : Value} {a b : List Nat} (hu : Row .u8 256 w u a) (tu : Tidy u) (hv : Row .u8 256 w v b) (tv : Tidy v) (la : 0 < a.length) (lb : 0 < b.length) : GrT (w.alloc (.cells #[u, v] 25)) w.heap.size (.slice (some ⟨w.heap.size, 0, none⟩) 2 2) [a, b] := by
  have hb := keep_alloc w (.cells #[u, v] 25)
  have ap : ∀ {x : Value} {l : List Nat}, Row .u8 256 w x l → 0 < l.length → Apart1 (w.alloc (.cells #[u, v] 25)) (.slice (some ⟨w.heap.size, 0, none⟩) 2 2) x := fun hx hl q hq => by
    have h1 := hx.old hl hq
    refine ⟨by rw [World.size_alloc]; omega, fun e => ?_⟩
    have : w.heap.size = q := by simpa [Value.ownBlock] using e
    omega
  refine ⟨⟨[u, v], World.ownsRow_lit (base := w.heap.size) (e := 25) (size := 1) w #[u, v] 2 (Nat.le_refl _) (by decide) rfl, texts_cons (hu.below hb) tu (texts_cons (hv.below hb) tv (Texts.nil _)), fun x hx => ?_⟩⟩
  rcases List.mem_cons.1 hx with h | h
  · rw [h]; exact ap hu la
  · have : x = v := by simpa using h
    rw [this]; exact ap hv lb
theorem el_le_of {K : Nat} {l : List Nat} (h : ∀ x ∈ l, x < 2 ^ K) (i : Nat) : el l i ≤ 2 ^ K - 1 := by
  by_cases hi : i < l.length
  · rw [el_at hi]; have := h _ (List.getElem_mem hi); omega
  · unfold el; rw [List.getElem?_eq_none (by omega)]; exact Nat.zero_le _
end Go.Proofs.YtefndnbaifiboaaDoor
