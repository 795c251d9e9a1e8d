/- Leaves that sign once, the program's own: Public. -/
import Derived.Test.YtogiballdmgcpaaGreatDoorLcL
import Derived.Test.YtogiballdmgcpaaGreatDoorLsE
import Derived.Test.YtogiballdmgcpaaGreatDoorLhA
namespace Go.Proofs.YtogiballdmgcpaaGreatDoor
open Go.RowKit
set_option linter.unusedVariables false
set_option linter.unusedSimpArgs false

/-- where the loop over the parts stands -/
def PuL (w2 : World) (H N : Nat) (f : Nat → List Nat) (vi : Value) (wr : World) : Prop := ∃ i : Nat, i ≤ N ∧ vi = .int .i64 (i : Int) ∧ UpS wr H N i f ∧ But H w2 wr
theorem PuL.next {w2 wr y : World} {H N i : Nat} {v : Value} {f : Nat → List Nat} (hU : UpS wr H N i f) (hb : But H w2 wr) (kb : Below wr.heap.size wr y) (hi : i < N) (hv : Row .u8 256 y v (f i)) (tv : Tidy v) (hn : ∀ q, v.ownBlock = some q → q ≠ H) :
    PuL w2 H N f (.int .i64 ((i + 1 : Nat) : Int)) (y.setCell ⟨H, i, none⟩ v) :=
  ⟨i + 1, hi, rfl, (hU.below kb).store hi hv tv hn, (hb.trans (But.of_below kb)).setCell _ _⟩
theorem PuL.start {w2 : World} {H N : Nat} (f : Nat → List Nat) (hU : UpS w2 H N 0 f) : PuL w2 H N f (.int .i64 0) w2 := ⟨0, Nat.zero_le _, rfl, hU, But.refl _ _⟩
theorem map_flat32 {f : Nat → List Nat} {N : Nat} (h : ∀ i, (f i).length = 32) : ((List.range N).map f).flatten.length = 32 * N := by
  rw [flat_32_len _ (fun p hp => by obtain ⟨i, _, rfl⟩ := List.mem_map.1 hp; exact h i)]
  simp
def pu8lt : List Lt := [(0, some 35, [12]), (0, some 36, [13]), (0, some 37, [10]), (0, some 38, [13]), (0, some 39, [10]), (0, some 40, [13]), (32, some 41, [40]), (0, some 42, [3]), (208, some 43, [39, 41, 42]), (0, some 44, [10]), (512, some 45, [44]), (1280, some 46, [45]), (2316, some 47, [37, 38, 43, 46]), (8191, some 48, [35, 36]), (16383, none, [48, 47])]
theorem pu8reg : Reg (opsA (cRA (cBA (cLA (cRA (cRA (cLpA (cBA (cRA (cLA (cRA (cRA (cRA (cRA (Tryz.f119.body.getD .skip))))))))))))))) pu8lt := ⟨by kernel_rfl, by kernel_rfl⟩
set_option maxHeartbeats 4000000 in
set_option maxRecDepth 100000 in
theorem cpub_ok {k n m s c P : Nat} (h : Kd k n m s c) (hP : P = n + m) (q : Nat) (id seed : List Nat) (idv sv : Value) (w : World) (hT : Roots w) (hi : Row .u8 256 w idv id) (ti : Tidy idv) (hs : Row .u8 256 w sv seed) (ts : Tidy sv) (hl : id.length = 16) (hsl : seed.length = 32) (hq : q < 4294967296) :
    Calls Tryz.prog 119 #[.int .i64 (k : Int), idv, .int .u32 (q : Int), sv] w fun e w' => ∃ v, e = .returned (.tuple #[v, .int .i64 0]) ∧ Own 5 .u8 256 w' w.heap.size v (pubH shaL (preL id q) (2 ^ k - 1) P seed) ∧ Below w.heap.size w w' := by
  obtain ⟨sa, sc, rfl, _⟩ := hs.opens hsl
  have hsec := csec_ok h hP q id idv sa sc w hi ti hl hq
  obtain ⟨ia, ic, rfl, _⟩ := hi.opens hl
  obtain ⟨p1, p2, p3, p4, p5, p6, p7⟩ := h.pos
  obtain ⟨q1, q2, q3, q4, q5, q6, q7⟩ := h.more
  have htop := fun y => ktop_ok h hP y
  have hP1 : P ≤ 265 := by omega
  obtain ⟨M, hM⟩ : ∃ M, M = 2 ^ k - 1 := ⟨_, rfl⟩
  rw [← hM] at htop q3 ⊢
  have hpl : (preL id q).length = 20 := by rw [len_pre, hl]
  obtain ⟨pre, hpre⟩ : ∃ x, x = preL id q := ⟨_, rfl⟩
  rw [← hpre] at hsec hpl ⊢
  have hdr := fun (i : Nat) (hi' : i < 65536) y av (hTy : Roots y) (ra : Row .u8 256 y av pre) (ta : Tidy av) (rs : Row .u8 256 y (.slice sa 32 sc) seed) => cdrawn_any k P s c i pre seed av _ y hTy ra ta rs ts hi' (by omega)
  have hal : ∀ (i : Nat) (hi' : i < 65536) (y0 : List Nat) (hy0 : y0.length = 32) y av yv (hTy : Roots y) (ra : Row .u8 256 y av pre) (ta : Tidy av) (ry : Row .u8 256 y yv y0) (ty : Tidy yv), Calls Tryz.prog 96 #[.agg #[.int .i64 (k : Int), .int .i64 (P : Int), .int .i64 (s : Int), .int .u64 (c : Int), av], .int .i64 (i : Int), yv, .int .u32 0, .int .u32 (M : Int)] y fun e w' => ∃ v, e = .returned v ∧ Row .u8 256 w' v (chN shaL pre i 0 M y0) ∧ Tidy v ∧ (New y.heap.size v ∨ v = yv) ∧ Below y.heap.size y w' := fun i hi' y0 hy0 y av yv hTy ra ta ry ty => by
    have := calong_any k P s c i 0 M pre y0 av yv y hTy ra ta ry ty hi' (by omega) hy0 (by omega)
    rw [Nat.zero_add] at this
    exact this
  have hsm := fun y av mv ps (hTy : Roots y) (ra : Row .u8 256 y av pre) (ta : Tidy av) (rm : Rows2 y mv ps) (hps : ps.length ≤ 265) (hfl : ps.flatten.length ≤ 32 * 265) => csum_any k P s c 32896 pre ps av mv y hTy ra ta rm (by decide) (by omega) (by omega)
  have hX : ∀ i, (lmX shaL pre i 255 seed).length = 32 := fun i => shaL_len _
  have hC : ∀ i, (chN shaL pre i 0 M (lmX shaL pre i 255 seed)).length = 32 := fun i => chN_len shaL_len i 0 _ (hX i) _
  unfold pubH keyH endsP
  generalize shaL = HH at *
  obtain ⟨f, hf⟩ : ∃ f : Nat → List Nat, f = fun i => chN HH pre i 0 M (lmX HH pre i 255 seed) := ⟨_, rfl⟩
  rw [← hf]
  have hfi : ∀ i, chN HH pre i 0 M (lmX HH pre i 255 seed) = f i := fun i => by rw [hf]
  have hfl : ((List.range P).map f).flatten.length ≤ 32 * 265 := by rw [map_flat32 (fun i => by rw [← hfi]; exact hC i)]; omega
  have hps : ((List.range P).map f).length ≤ 265 := by simpa using hP1
  obtain ⟨i0, hi0, hz0, hz1, hz2⟩ := info_text
  have HX := hide (And.intro hX (And.intro hfi (And.intro hC (And.intro hP1 p1))))
  have HS := hide (And.intro hs (And.intro hT (And.intro hfl hps)))
  have hsmH := hide hsm
  have hdrH := hide hdr
  have halH := hide hal
  clear hX hfi hC hs hT hfl hps hsm hdr hal hM hpre hP h hf hi p1 q1 q2 q4 q5 p5
  go_enter Tryz.func119, Tryz.ntmps119
  go_wp2_with (first
    | (go_at_call 108; refine hsec.mono ?_; rintro e w1 ⟨av, rfl, oa, g1⟩; obtain ⟨aa, ac, rfl, _⟩ := oa.row.opens hpl; have bx := BxL.new w1 (.int .i64 (k : Int)) (.int .i64 (P : Int)) (.int .i64 (s : Int)) (.int .u64 (c : Int)) (.slice aa 20 ac); have cP : (w1.alloc (.cells #[.int .i64 (k : Int), .int .i64 (P : Int), .int .i64 (s : Int), .int .u64 (c : Int), .slice aa 20 ac] 126)).cell? ⟨w1.heap.size, 1, none⟩ = some (.int .i64 (P : Int)) := bx.range 1 _ rfl)
    | (at_make; refine wpList_make_full _ rfl _ _ 48 rfl (w1.heap.size + 1) 23 i0 (.slice none 0 0) 1 Tryz.underlying48 hi0 hz0 hz1 _ _ _ _ P rfl rfl rfl rfl (by rw [hz2]; have := HX.out.2.2.2.1; omega) (by have := HX.out.2.2.2.1; unfold maxLen; omega) (by rw [World.size_alloc]; exact Nat.le_refl _) ?_; intro w2 hown hgrow; have hbg := (Below.refl (w1.alloc (.cells #[.int .i64 (k : Int), .int .i64 (P : Int), .int .i64 (s : Int), .int .u64 (c : Int), .slice aa 20 ac] 126)).heap.size (w1.alloc (.cells #[.int .i64 (k : Int), .int .i64 (P : Int), .int .i64 (s : Int), .int .u64 (c : Int), .slice aa 20 ac] 126))).grown hgrow (Nat.le_refl _) (fun k h => by cases h); have bx2 := bx.below hbg; have cP2 : w2.cell? ⟨w1.heap.size, 1, none⟩ = some (.int .i64 (P : Int)) := bx2.range 1 _ rfl)
    | fail)
  have hb1 := keep_trans g1 (keep_alloc w1 (.cells #[.int .i64 (k : Int), .int .i64 (P : Int), .int .i64 (s : Int), .int .u64 (c : Int), .slice aa 20 ac] 126))
  have hU := UpS.made f hown
  have oa2 := (oa.row.below (keep_alloc w1 (.cells #[.int .i64 (k : Int), .int .i64 (P : Int), .int .i64 (s : Int), .int .u64 (c : Int), .slice aa 20 ac] 126))).below hbg
  have hb2 := keep_trans hb1 hbg
  have haw : ∀ H, H = w1.heap.size + 1 → Away H (.slice aa 20 ac) pre := fun H hH => oa.row.away (by omega)
  have hXn : ∀ H, H = w1.heap.size + 1 → w1.heap.size ≠ H ∧ w.heap.size ≤ H := fun H hH => by have := g1.size; omega
  have hHs : (w1.alloc (.cells #[.int .i64 (k : Int), .int .i64 (P : Int), .int .i64 (s : Int), .int .u64 (c : Int), .slice aa 20 ac] 126)).heap.size = w1.heap.size + 1 := by rw [World.size_alloc]
  have hXX := hXn _ hHs
  have haw2 := haw _ hHs
  have ta := oa.tidy
  generalize (w1.alloc (.cells #[.int .i64 (k : Int), .int .i64 (P : Int), .int .i64 (s : Int), .int .u64 (c : Int), .slice aa 20 ac] 126)).heap.size = H at *
  subst hHs
  generalize w1.heap.size = X at *
  have H0 := hide (PuL.start f hU)
  have HA := hide (And.intro oa2 (And.intro ta (And.intro hb2 (And.intro haw2 (And.intro bx2 hXX)))))
  go_loopw [32] (fun vi wr => PuL w2 (X + 1) P f vi wr) (fun vi _ => P - (intOf vi).toNat)
  case atStart => exact H0.out
  case round =>
    obtain ⟨i, hi', rfl, hUr, hbr⟩ := hrel
    clear H0
    rename World => wr
    obtain ⟨hX, hfi, hC, hP1, p1⟩ := HX.out
    obtain ⟨oar, ta, hb2, haw, bx2, hXH, hwH⟩ := HA.out
    obtain ⟨hs, hT, hfl, hps⟩ := HS.out
    have bxr := bx2.but hbr hXH
    have hbw := hb2.trans (hbr.below hwH hb2.size)
    have hTr := hT.below hbw
    have har := oar.but haw hbr
    by_cases hlt : i < P
    · have hiP := hlt
      have hii : (i : Int) < (P : Int) := by omega
      obtain ⟨I, hI⟩ : ∃ I : Nat, I = i + 1 := ⟨_, rfl⟩
      have e_I : (i : Int) + 1 = (I : Int) := by omega
      have s_I : IntKind.i64.wrap (I : Int) = (I : Int) := by rw [IntKind.wrap_i64]; omega
      have hsr := hs.below hbw
      have hXi := hX i
      have hCi : (f i).length = 32 := by rw [← hfi]; exact hC i
      have hdr := fun y hTy ra rs => hdrH.out i (by omega) y (.slice aa 20 ac) hTy ra ta rs
      have hal := fun y yv hTy ra ry ty => halH.out i (by omega) (lmX HH pre i 255 seed) hXi y (.slice aa 20 ac) yv hTy ra ta ry ty
      simp only [hfi] at hal
      have hbd : But (X + 1) wr wr.drew := (But.refl _ _).drew
      have kb : Below wr.heap.size wr wr.drew := (Below.refl _ _).drew
      have HK := hide (And.intro hI (And.intro hlt hbr))
      have hi6 : i < 65536 := by omega
      clear hX hfi hC hs hT hfl hps hI hlt hb2 hbw hwH hP1 hbr oar hi' haw bx2
      go_wp2
      refine at_begin (ops := opsA (cRA (cBA (cLA (cRA (cRA (cLpA (cBA (cRA (cLA (cRA (cRA (cRA (cRA (Tryz.f119.body.getD .skip))))))))))))))) (n := 15) (fun y => But (X + 1) wr y) (by kernel_rfl) (by kernel_rfl) ?_
      refine at_takeD (i := 0) (m' := 1) (d := some 35) (v := .slice (some ⟨X + 1, 0, none⟩) P P) pu8reg rfl (by decide) rfl rfl (y_moveG (wanted_free rfl) rfl rfl) hbd ?_
      simp only [Act.put, List.setIfInBounds_toArray, List.set_cons_zero, List.set_cons_succ]
      refine at_takeD (i := 1) (m' := 3) (d := some 36) (v := .int .i64 (i : Int)) pu8reg rfl (by decide) rfl rfl (y_moveG (wanted_free rfl) rfl rfl) hbd ?_
      simp only [Act.put, List.setIfInBounds_toArray, List.set_cons_zero, List.set_cons_succ]
      refine at_takeD (i := 2) (m' := 7) (d := some 37) (v := .agg #[.int .i64 (k : Int), .int .i64 (P : Int), .int .i64 (s : Int), .int .u64 (c : Int), .slice aa 20 ac]) pu8reg rfl (by decide) rfl rfl (y_rowG (cs := [.int .i64 (k : Int), .int .i64 (P : Int), .int .i64 (s : Int), .int .u64 (c : Int), .slice aa 20 ac]) (wanted_free rfl) rfl rfl Tryz.underlying126 rfl (by kernel_rfl) (fun _ h => (bxr.but h hXH).range)) hbd ?_
      simp only [Act.put, List.setIfInBounds_toArray, List.set_cons_zero, List.set_cons_succ]
      refine at_takeD (i := 3) (m' := 15) (d := some 38) (v := .int .i64 (i : Int)) pu8reg rfl (by decide) rfl rfl (y_moveG (wanted_free rfl) rfl rfl) hbd ?_
      simp only [Act.put, List.setIfInBounds_toArray, List.set_cons_zero, List.set_cons_succ]
      refine at_takeD (i := 4) (m' := 31) (d := some 39) (v := .agg #[.int .i64 (k : Int), .int .i64 (P : Int), .int .i64 (s : Int), .int .u64 (c : Int), .slice aa 20 ac]) pu8reg rfl (by decide) rfl rfl (y_rowG (cs := [.int .i64 (k : Int), .int .i64 (P : Int), .int .i64 (s : Int), .int .u64 (c : Int), .slice aa 20 ac]) (wanted_free rfl) rfl rfl Tryz.underlying126 rfl (by kernel_rfl) (fun _ h => (bxr.but h hXH).range)) hbd ?_
      simp only [Act.put, List.setIfInBounds_toArray, List.set_cons_zero, List.set_cons_succ]
      refine at_takeD (i := 5) (m' := 63) (d := some 40) (v := .int .i64 (i : Int)) pu8reg rfl (by decide) rfl rfl (y_moveG (wanted_free rfl) rfl rfl) hbd ?_
      simp only [Act.put, List.setIfInBounds_toArray, List.set_cons_zero, List.set_cons_succ]
      refine at_takeD (i := 6) (m' := 127) (d := some 41) (v := .int .u64 (i : Int)) pu8reg rfl (by decide) rfl rfl (y_convI (wanted_free rfl) rfl rfl (conv_i64u64 i (by omega))) hbd ?_
      simp only [Act.put, List.setIfInBounds_toArray, List.set_cons_zero, List.set_cons_succ]
      refine at_takeD (i := 7) (m' := 255) (d := some 42) (v := .slice sa 32 sc) pu8reg rfl (by decide) rfl rfl (y_moveG (wanted_free rfl) rfl rfl) hbd ?_
      simp only [Act.put, List.setIfInBounds_toArray, List.set_cons_zero, List.set_cons_succ]
      refine at_takeD (i := 9) (m' := 767) (d := some 44) (v := .pointer (some ⟨X, 0, none⟩)) pu8reg rfl (by decide) rfl rfl (y_fieldG (wanted_free rfl) rfl rfl (fun w => by simp [go_sem])) hbd ?_
      simp only [Act.put, List.setIfInBounds_toArray, List.set_cons_zero, List.set_cons_succ]
      refine at_takeD (i := 10) (m' := 1791) (d := some 45) (v := .agg #[.int .i64 (k : Int), .int .i64 (P : Int), .int .i64 (s : Int), .int .u64 (c : Int)]) pu8reg rfl (by decide) rfl rfl (y_rowG (cs := [.int .i64 (k : Int), .int .i64 (P : Int), .int .i64 (s : Int), .int .u64 (c : Int)]) (wanted_free rfl) rfl rfl Tryz.underlying124 rfl (by kernel_rfl) (fun _ h => (bxr.but h hXH).range4)) hbd ?_
      simp only [Act.put, List.setIfInBounds_toArray, List.set_cons_zero, List.set_cons_succ]
      refine at_one (i := 8) (m' := 2047) pu8reg (by decide) rfl ?_
      refine p_callG (args := #[.agg #[.int .i64 (k : Int), .int .i64 (P : Int), .int .i64 (s : Int), .int .u64 (c : Int), .slice aa 20 ac], .int .u64 (i : Int), .slice sa 32 sc]) (d := some 43) rfl (wanted_free rfl) rfl (by simp only [List.map_toArray, List.map_cons, List.map_nil]; rfl) rfl Tryz.call109 ((hdr wr.drew (hTr.below kb) (har.below kb) (hsr.below kb)).mono ?_)
      rintro e y11 ⟨dv, rfl, od, g11⟩
      obtain ⟨da, dc, rfl, _⟩ := od.row.opens hXi
      have td := od.tidy
      have rd := od.row
      replace kb := keep_trans kb g11
      have hb11 := but_keep hbd g11
      refine ⟨_, rfl, hb11, ?_⟩
      simp only [Act.put, List.setIfInBounds_toArray, List.set_cons_zero, List.set_cons_succ]
      refine at_one (i := 11) (m' := 4095) pu8reg (by decide) rfl ?_
      refine p_callG (args := #[.agg #[.int .i64 (k : Int), .int .i64 (P : Int), .int .i64 (s : Int), .int .u64 (c : Int)]]) (d := some 46) rfl (wanted_free rfl) rfl (by simp only [List.map_toArray, List.map_cons, List.map_nil]; rfl) rfl Tryz.call97 ((htop y11).mono ?_)
      rintro e y12 ⟨rfl, g12⟩
      replace rd := rd.below g12
      replace kb := keep_trans kb g12
      have hb12 := but_keep hb11 g12
      refine ⟨_, rfl, hb12, ?_⟩
      simp only [Act.put, List.setIfInBounds_toArray, List.set_cons_zero, List.set_cons_succ]
      refine at_one (i := 12) (m' := 8191) pu8reg (by decide) rfl ?_
      refine p_callG (args := #[.agg #[.int .i64 (k : Int), .int .i64 (P : Int), .int .i64 (s : Int), .int .u64 (c : Int), .slice aa 20 ac], .int .i64 (i : Int), .slice da 32 dc, .int .u32 0, .int .u32 (M : Int)]) (d := some 47) rfl (wanted_free rfl) rfl (by simp only [List.map_toArray, List.map_cons, List.map_nil]; rfl) rfl Tryz.call96 ((hal y12 _ (hTr.below kb) (har.below kb) rd td).mono ?_)
      rintro e y13 ⟨xv, rfl, rx, tx, nx, g13⟩
      have kc := kb
      replace kb := keep_trans kb g13
      obtain ⟨xa, xc, rfl, _⟩ := rx.opens hCi
      have hb13 := but_keep hb12 g13
      refine ⟨_, rfl, hb13, ?_⟩
      simp only [Act.put, List.setIfInBounds_toArray, List.set_cons_zero, List.set_cons_succ]
      refine at_takeD (i := 13) (m' := 16383) (d := some 48) (v := .pointer (some ⟨X + 1, i, none⟩)) pu8reg rfl (by decide) rfl rfl (y_ix0 (wanted_free rfl) rfl rfl rfl Tryz.underlying48 (by kernel_rfl) hiP) hb13 ?_
      simp only [Act.put, List.setIfInBounds_toArray, List.set_cons_zero, List.set_cons_succ]
      refine at_one (i := 14) (m' := 32767) pu8reg (by decide) rfl ?_
      have hsz := kb
      refine p_store_plain (P := Tryz.prog) rfl rfl rfl rfl rfl rfl Tryz.underlying23 rfl (by kernel_rfl) ((hUr.below kb).any hiP) ((hUr.below kb).frozen i) ?_
      have hb15 := hb13.setCell i (.slice xa 32 xc)
      refine ⟨hb15, ?_⟩
      refine at_done pu8reg (by decide) ?_
      go_wp2
      obtain ⟨hI, hlt, hbr⟩ := HK.out
      have hn : ∀ q, (Value.slice xa 32 xc).ownBlock = some q → q ≠ X + 1 := fun q hq => by
        have hl := hUr.lt
        have hz : wr.drew.heap.size = wr.heap.size := rfl
        rcases nx with nx | nx
        · have h1 := nx q hq
          have h2 := kc.size
          omega
        · rw [nx] at hq
          have h1 := od.new q hq
          omega
      have hnext := PuL.next hUr hbr kb hlt rx tx hn
      rw [← hI] at hnext
      exact ⟨hnext, by simp [intOf]; omega⟩
    · obtain rfl : i = P := by omega
      have hge : ¬ ((i : Int) < (i : Int)) := by omega
      have rr := hUr.rows (by omega)
      have hsm1 := hsmH.out wr (.slice aa 20 ac) _ ((List.range i).map f) hTr har ta rr hps hfl
      have HK := hide hbw
      clear hX hfi hC hs hT hfl hps hb2 hbw hP1 hbr oar hi' hlt rr haw bx2 hwH
      go_wp2_with (first
        | (refine wpList_load_row rfl 126 _ (by rfl) X (by rfl) _ _ _ _ bxr.here Tryz.underlying126 rfl (by kernel_rfl) ?_)
        | (go_at_call 95; refine hsm1.mono ?_; rintro e w9 ⟨v9, rfl, o9, g9⟩)
        | fail)
      go_ret2
      exact ⟨_, rfl, o9.mono HK.out.size, keep_trans HK.out g9⟩
end Go.Proofs.YtogiballdmgcpaaGreatDoor

/- Trees of leaves that sign once, the program's own: what grows a tree; a row of knots, by a method that is handed about. -/
namespace Go.Proofs.YtogiballdmgcpaaGreatDoor
open Go.RowKit Go.Shelf
set_option linter.unusedVariables false
set_option linter.unusedSimpArgs false

section
variable {ops : Array Oper} {Q : Exit → Act → World → Prop} {S : World → Prop} {K : Act → World → Prop}
/-- a method value called -/
theorem p_callVL {i : Nat} {o : Oper} {a : Act} {w : World} {f : FuncId} {x y : Operand} {ts : Array TypeId} {u v : Value} {d : Option Nat} (hi : ops[i]? = some o) (hg : o.guard = none) (ho : o.op = .call { callee := .value x, args := #[y], argTypes := ts }) (hx : a.eval x = .func (.func f) #[u] #[]) (hy : a.eval y = v) (hd : o.dst = d)
    (hf : ∀ (args : Array Value) (w : World), (callFunc f args).run Tryz.prog w = .ok (.enter f args) w) (h : Calls Tryz.prog f #[u, v] w fun e w' => ∃ r, e = .returned r ∧ K (a.put d r) w') : wpOp Tryz.prog ops Q i K a w := by
  have hr : (execOp a.eval o).run Tryz.prog w = .ok (.enter f #[u, v]) w := by
    unfold execOp
    simp only [ho, List.map_toArray, List.map_cons, List.map_nil, hy, resolve, hx]
    simp [invoke, go_sem, hf]
  unfold wpOp
  simp only [hi]
  rw [if_pos (wanted_free hg)]
  left
  unfold Oper.wp
  rw [hr]
  refine h.mono ?_
  rintro e w' ⟨r, rfl, hk⟩
  rw [← hd] at hk
  exact hk
theorem y_mkF {o : Oper} {a : Act} {x : Operand} {f : FuncId} {v : Value} (hw : Region.wanted o (yielded ops a.tmps) = true) (ho : o.op = .makeFunc (.func f) #[x] #[]) (hx : a.eval x = v) : YieldsIf Tryz.prog ops S o (.func (.func f) #[v] #[]) a :=
  y_ofG hw fun w _ => by
    unfold execOp
    simp only [ho, List.map_toArray, List.map_cons, List.map_nil, hx]
    rfl
theorem y_subI {o : Oper} {a : Act} {x y : Operand} {t t' : TypeId} {i j q : Int} (hw : Region.wanted o (yielded ops a.tmps) = true) (ho : o.op = .binOp .sub t x y t') (hx : a.eval x = .int .i64 i) (hy : a.eval y = .int .i64 j) (hu : Tryz.prog.underlying t = some (.int .i64)) (hb : IntKind.i64.wrap (i - j) = q) : YieldsIf Tryz.prog ops S o (.int .i64 q) a := by
  refine y_ofG hw fun w _ => ?_
  unfold execOp
  simp only [ho, hx, hy]
  simp [go_sem, Sem.run_bind, run_underlying hu, hb]
end
/-- a grower's box -/
structure BxW (W : World) (B : Nat) (a b c d e : Value) : Prop where
  here : W.heap[B]? = some (.cells #[a, b, c, d, e] 107 (0, 0))
theorem BxW.lt {W : World} {B : Nat} {a b c d e : Value} (h : BxW W B a b c d e) : B < W.heap.size := (Array.getElem?_eq_some_iff.1 h.here).1
theorem BxW.below {W W' : World} {B : Nat} {a b c d e : Value} (h : BxW W B a b c d e) (hb : Below W.heap.size W W') : BxW W' B a b c d e := ⟨(hb.block _ h.lt).trans h.here⟩
theorem BxW.but {W W' : World} {B g : Nat} {a b c d e : Value} (h : BxW W B a b c d e) (hb : But g W W') (hne : B ≠ g) : BxW W' B a b c d e := ⟨(hb.block _ h.lt hne).trans h.here⟩
theorem BxW.new (W : World) (a b c d e : Value) : BxW (W.alloc (.cells #[a, b, c, d, e] 107)) W.heap.size a b c d e := ⟨heap_alloc_new W _⟩
theorem BxW.row {W : World} {B : Nat} {a b c d e a' b' c' d' e' : Value} (h : BxW W B a b c d e) : BxW (W.setRow B #[a', b', c', d', e']) B a' b' c' d' e' := ⟨setRow_heap W B _ _ _ _ h.here⟩
theorem BxW.range {W : World} {B : Nat} {a b c d e : Value} (h : BxW W B a b c d e) : W.rangeAt B 0 [a, b, c, d, e] := fun j v hv => by
  rw [Nat.zero_add]
  simp only [World.cell?, h.here]
  simpa using hv
theorem BxW.range3 {W : World} {B : Nat} {a b c d e : Value} (h : BxW W B a b c d e) : W.rangeAt B 0 [a, b, c] := fun j v hv => by
  rw [Nat.zero_add]
  simp only [World.cell?, h.here]
  rcases j with _ | _ | _ | j
  · simpa using hv
  · simpa using hv
  · simpa using hv
  · simp at hv
theorem BxW.c0 {W : World} {B : Nat} {a b c d e : Value} (h : BxW W B a b c d e) : W.cell? ⟨B, 0, none⟩ = some a := by simp [World.cell?, h.here]
theorem BxW.c1 {W : World} {B : Nat} {a b c d e : Value} (h : BxW W B a b c d e) : W.cell? ⟨B, 1, none⟩ = some b := by simp [World.cell?, h.here]
theorem BxW.c2 {W : World} {B : Nat} {a b c d e : Value} (h : BxW W B a b c d e) : W.cell? ⟨B, 2, none⟩ = some c := by simp [World.cell?, h.here]
theorem BxW.c3 {W : World} {B : Nat} {a b c d e : Value} (h : BxW W B a b c d e) : W.cell? ⟨B, 3, none⟩ = some d := by simp [World.cell?, h.here]
theorem BxW.c4 {W : World} {B : Nat} {a b c d e : Value} (h : BxW W B a b c d e) : W.cell? ⟨B, 4, none⟩ = some e := by simp [World.cell?, h.here]
theorem BxW.ret {W : World} {B : Nat} {a b c d e : Value} (h : BxW W B a b c d e) {fn : Func} {p q : Tmp} (hr : fn.results = #[.cell p 107, .tmp q]) (tmps : Array Value) {v : Value} (hp : tmps.getD p undef = .pointer (some ⟨B, 0, none⟩)) (hv : tmps.getD q undef = v) :
    (results fn tmps).run Tryz.prog W = .ok (.tuple #[.agg #[a, b, c, d, e], v]) W := by
  subst hv
  have hp' : tmps[p]?.getD undef = .pointer (some ⟨B, 0, none⟩) := by simpa using hp
  simp [results, hr, hp', asAddr, run_loadVar_row W B 107 107 #[a, b, c, d, e] (0, 0) _ h.here Tryz.underlying107 rfl (by kernel_rfl)]
/-- knots' sums, as many as are grown, each in its place -/
def KnP (wr : World) (H N : Nat) (S : Nat → Prop) (f : Nat → List Nat) : Prop := ∃ us : Array Value, us.size = N ∧ wr.heap[H]? = some (.cells us 23 (0, 0)) ∧ ∀ j, S j → j < N → ∃ u, us[j]? = some u ∧ Row .u8 256 wr u (f j) ∧ Tidy u ∧ ∀ q, u.ownBlock = some q → q ≠ H
theorem KnP.lt {wr : World} {H N : Nat} {S : Nat → Prop} {f : Nat → List Nat} (h : KnP wr H N S f) : H < wr.heap.size := by
  obtain ⟨us, _, h1, _⟩ := h
  exact (Array.getElem?_eq_some_iff.1 h1).1
theorem KnP.below {wr w' : World} {H N : Nat} {S : Nat → Prop} {f : Nat → List Nat} (h : KnP wr H N S f) (hb : Below wr.heap.size wr w') : KnP w' H N S f := by
  have hl := h.lt
  obtain ⟨us, h1, h2, h3⟩ := h
  refine ⟨us, h1, (hb.block _ hl).trans h2, fun j k1 k2 => ?_⟩
  obtain ⟨u, e1, e2, e3, e4⟩ := h3 j k1 k2
  exact ⟨u, e1, e2.below hb, e3, e4⟩
theorem KnP.mono {wr : World} {H N : Nat} {S S' : Nat → Prop} {f : Nat → List Nat} (h : KnP wr H N S f) (hS : ∀ j, j < N → S' j → S j) : KnP wr H N S' f := by
  obtain ⟨us, h1, h2, h3⟩ := h
  exact ⟨us, h1, h2, fun j k1 k2 => h3 j (hS j k2 k1) k2⟩
theorem KnP.frozen {wr : World} {H N : Nat} {S : Nat → Prop} {f : Nat → List Nat} (h : KnP wr H N S f) (j : Nat) : wr.frozen? ⟨H, j, none⟩ = false := by
  obtain ⟨us, _, h1, _⟩ := h
  simp [World.frozen?, h1]
theorem KnP.any {wr : World} {H N : Nat} {S : Nat → Prop} {f : Nat → List Nat} (h : KnP wr H N S f) {j : Nat} (hj : j < N) : (wr.cell? ⟨H, j, none⟩).isSome = true := by
  obtain ⟨us, h0, h1, _⟩ := h
  rw [cell_of_row wr H j _ _ (0, 0) h1]
  rw [Array.getElem?_eq_getElem (by omega)]; rfl
theorem KnP.cell {wr : World} {H N : Nat} {S : Nat → Prop} {f : Nat → List Nat} (h : KnP wr H N S f) {j : Nat} (k1 : S j) (k2 : j < N) : ∃ u, wr.cell? ⟨H, j, none⟩ = some u ∧ Row .u8 256 wr u (f j) ∧ Tidy u ∧ ∀ q, u.ownBlock = some q → q ≠ H := by
  obtain ⟨us, h0, h1, h2⟩ := h
  obtain ⟨u, e1, e2, e3, e4⟩ := h2 j k1 k2
  exact ⟨u, by rw [cell_of_row wr H j _ _ (0, 0) h1]; exact e1, e2, e3, e4⟩
theorem KnP.store {wr : World} {H N i : Nat} {S S' : Nat → Prop} {f : Nat → List Nat} {v : Value} (h : KnP wr H N S f) (hi : i < N) (hS : ∀ j, S' j → j = i ∨ S j) (hv : Row .u8 256 wr v (f i)) (tv : Tidy v) (hn : ∀ q, v.ownBlock = some q → q ≠ H) : KnP (wr.setCell ⟨H, i, none⟩ v) H N S' f := by
  obtain ⟨us, h0, h1, h2⟩ := h
  have hB : But H wr (wr.setCell ⟨H, i, none⟩ v) := (But.refl H wr).setCell i v
  refine ⟨us.setIfInBounds i v, by simp [h0], ?_, fun j k1 k2 => ?_⟩
  · rw [setCell_eq_setRow wr H i _ 23 (0, 0) _ h1]
    exact setRow_heap wr H _ _ 23 _ h1
  · by_cases e : j = i
    · subst e
      exact ⟨v, by rw [Array.getElem?_setIfInBounds_self_of_lt (by omega)], hv.but (fun _ q hq => hn q hq) hB, tv, hn⟩
    · have hSj : S j := (hS j k1).resolve_left e
      obtain ⟨u, e1, e2, e3, e4⟩ := h2 j hSj k2
      exact ⟨u, by rw [Array.getElem?_setIfInBounds_ne (fun x => e x.symm)]; exact e1, e2.but (fun _ q hq => e4 q hq) hB, e3, e4⟩
theorem KnP.made {w : World} {base g n : Nat} {xs : List Value} (f : Nat → List Nat) (h : w.ownsRow base 23 1 (.slice (some ⟨g, 0, none⟩) n n) n xs) : KnP w g n (fun _ => False) f := by
  obtain ⟨us, h0, h1, _⟩ := KnS.made f h
  exact ⟨us, h0, h1, fun j k1 _ => k1.elim⟩
/-- which knots are grown when a row is grown up to knot k -/
def upS (first k : Nat) : Nat → Prop := fun j => 2 * first ≤ j ∨ first ≤ j ∧ j < k
def RwL (W0 : World) (H N first : Nat) (f : Nat → List Nat) (vi : Value) (wr : World) : Prop := ∃ k : Nat, first ≤ k ∧ k ≤ 2 * first ∧ vi = .int .i64 (k : Int) ∧ KnP wr H N (upS first k) f ∧ But H W0 wr
def rw4lt : List Lt := [(0, some 14, [3]), (1, some 15, [14]), (0, some 16, [6]), (0, some 17, [2]), (0, some 18, [6]), (24, some 19, [17, 18]), (63, some 20, [15, 16]), (127, none, [20, 19])]
theorem rw4reg : Reg (opsA (cBA (cLA (cRA (cLpA (cBA (cRA (cRA (Tryz.f104.body.getD .skip))))))))) rw4lt := ⟨by kernel_rfl, by kernel_rfl⟩
set_option maxHeartbeats 4000000 in
set_option maxRecDepth 100000 in
theorem crow_any (fid : FuncId) (H N first : Nat) (f : Nat → List Nat) (h x : Int) (ia sa : Option Addr) (il ic sl sc : Nat) (w : World) (hN : N ≤ 4096) (h1 : 1 ≤ first) (hfN : 2 * first ≤ N) (hfl : ∀ i, (f i).length = 32) (hK : KnP w H N (fun j => 2 * first ≤ j) f)
    (he : ∀ (args : Array Value) (y : World), (callFunc fid args).run Tryz.prog y = .ok (.enter fid args) y)
    (hS : ∀ (y : World) (k : Nat), But H w y → KnP y H N (upS first k) f → first ≤ k → k < 2 * first → Calls Tryz.prog fid #[.agg #[.int .i64 h, .int .i64 x, .slice ia il ic, .slice sa sl sc, .slice (some ⟨H, 0, none⟩) N N], .int .i64 (k : Int)] y fun e w' => ∃ v, e = .returned v ∧ Own 5 .u8 256 w' y.heap.size v (f k) ∧ Below y.heap.size y w') :
    Calls Tryz.prog 104 #[.agg #[.int .i64 h, .int .i64 x, .slice ia il ic, .slice sa sl sc, .slice (some ⟨H, 0, none⟩) N N], .int .i64 (first : Int), .func (.func fid) #[.agg #[.int .i64 h, .int .i64 x, .slice ia il ic, .slice sa sl sc, .slice (some ⟨H, 0, none⟩) N N]] #[]] w fun e w' => e = .returned (.tuple #[]) ∧ But H w w' ∧ KnP w' H N (fun j => first ≤ j) f := by
  have bN := BxW.new w (.int .i64 h) (.int .i64 x) (.slice ia il ic) (.slice sa sl sc) (.slice (some ⟨H, 0, none⟩) N N)
  have k0 := keep_alloc w (.cells #[.int .i64 h, .int .i64 x, .slice ia il ic, .slice sa sl sc, .slice (some ⟨H, 0, none⟩) N N] 107)
  have hHw := hK.lt
  have hK0 := hK.below k0
  have hne : w.heap.size ≠ H := by omega
  obtain ⟨T, hT⟩ : ∃ T : Nat, T = 2 * first := ⟨_, rfl⟩
  have e_T : (2 : Int) * (first : Int) = (T : Int) := by omega
  have s_T : IntKind.i64.wrap (T : Int) = (T : Int) := by rw [IntKind.wrap_i64]; omega
  generalize hW0 : w.alloc (.cells #[.int .i64 h, .int .i64 x, .slice ia il ic, .slice sa sl sc, .slice (some ⟨H, 0, none⟩) N N] 107) = W0 at *
  have H0 : Hid (RwL W0 H N first f (.int .i64 (first : Int)) W0) := hide ⟨first, Nat.le_refl _, by omega, rfl, hK0.mono (fun j _ hj => by unfold upS at hj; omega), But.refl _ _⟩
  have HX := hide (And.intro hT (And.intro hN (And.intro h1 (And.intro hfN (And.intro hfl (And.intro hS (But.of_below (g := H) k0)))))))
  clear hT hN h1 hfN hfl hS hK hK0 k0 hHw
  go_enter Tryz.func104, Tryz.ntmps104
  go_wp2
  go_loopw [6] (fun vi wr => RwL W0 H N first f vi wr) (fun vi _ => T - (intOf vi).toNat)
  case atStart => exact H0.out
  case round =>
    obtain ⟨k, hk1, hk2, rfl, hKr, hbr⟩ := hrel
    clear H0
    rename World => wr
    obtain ⟨hT, hN, h1, hfN, hfl, hS, hb0⟩ := HX.out
    by_cases hlt : k < T
    · have hli : (k : Int) < (T : Int) := by omega
      have hbx := bN.but hbr hne
      have hiP : k < N := by omega
      have hcl := hS wr.drew k (hb0.trans (hbr.trans (But.refl _ _).drew)) (hKr.below (Below.refl _ _).drew) hk1 (by omega)
      have hCl := hfl k
      obtain ⟨I, hI⟩ : ∃ I : Nat, I = k + 1 := ⟨_, rfl⟩
      have e_I : (k : Int) + 1 = (I : Int) := by omega
      have s_I : IntKind.i64.wrap (I : Int) = (I : Int) := by rw [IntKind.wrap_i64]; omega
      have HQ := hide (And.intro hI (And.intro hk1 (And.intro hk2 (And.intro hKr hlt))))
      have hbd : Below wr.heap.size wr wr.drew := (Below.refl _ _).drew
      have hSet := fun y (kb : Below wr.heap.size wr y) (v : Value) (o : Own 5 .u8 256 y wr.drew.heap.size v (f k)) => (hKr.below kb).store (S' := upS first (k + 1)) hiP (fun j hj => by unfold upS at hj ⊢; omega) o.row o.tidy (fun q e => by have := o.new q e; have := hKr.lt; have hz : wr.drew.heap.size = wr.heap.size := rfl; omega)
      have hKf := fun y (kb : Below wr.heap.size wr y) => And.intro ((hKr.below kb).any hiP) ((hKr.below kb).frozen k)
      clear hI hk1 hk2 hT hN h1 hfN hfl hS hlt hKr
      go_wp2
      refine at_begin (ops := opsA (cBA (cLA (cRA (cLpA (cBA (cRA (cRA (Tryz.f104.body.getD .skip))))))))) (n := 8) (fun y => But H wr y) (by kernel_rfl) (by kernel_rfl) ?_
      have kb := hbd
      replace hbd : But H wr wr.drew := (But.refl _ _).drew
      refine at_takeD (i := 0) (m' := 1) (d := some 14) (v := .pointer (some ⟨w.heap.size, 4, none⟩)) rw4reg rfl (by decide) rfl rfl (y_fieldG (wanted_free rfl) rfl rfl (fun w => by simp [go_sem])) hbd ?_
      simp only [Act.put, List.setIfInBounds_toArray, List.set_cons_zero, List.set_cons_succ]
      refine at_takeD (i := 1) (m' := 3) (d := some 15) (v := .slice (some ⟨H, 0, none⟩) N N) rw4reg rfl (by decide) rfl rfl (y_plainG (wanted_free rfl) rfl rfl Tryz.underlying48 rfl (fun _ h => (hbx.but h hne).c4)) hbd ?_
      simp only [Act.put, List.setIfInBounds_toArray, List.set_cons_zero, List.set_cons_succ]
      refine at_takeD (i := 2) (m' := 7) (d := some 16) (v := .int .i64 (k : Int)) rw4reg rfl (by decide) rfl rfl (y_moveG (wanted_free rfl) rfl rfl) hbd ?_
      simp only [Act.put, List.setIfInBounds_toArray, List.set_cons_zero, List.set_cons_succ]
      refine at_takeD (i := 3) (m' := 15) (d := some 17) (v := .func (.func fid) #[.agg #[.int .i64 h, .int .i64 x, .slice ia il ic, .slice sa sl sc, .slice (some ⟨H, 0, none⟩) N N]] #[]) rw4reg rfl (by decide) rfl rfl (y_moveG (wanted_free rfl) rfl rfl) hbd ?_
      simp only [Act.put, List.setIfInBounds_toArray, List.set_cons_zero, List.set_cons_succ]
      refine at_takeD (i := 4) (m' := 31) (d := some 18) (v := .int .i64 (k : Int)) rw4reg rfl (by decide) rfl rfl (y_moveG (wanted_free rfl) rfl rfl) hbd ?_
      simp only [Act.put, List.setIfInBounds_toArray, List.set_cons_zero, List.set_cons_succ]
      refine at_one (i := 5) (m' := 63) rw4reg (by decide) rfl ?_
      refine p_callVL (d := some 19) rfl rfl rfl rfl rfl rfl he ((hcl).mono ?_)
      rintro e y6 ⟨v, rfl, ov, g6⟩
      obtain ⟨va, vc, rfl, _⟩ := ov.row.opens hCl
      replace kb := keep_trans kb g6
      have hb6 := but_keep hbd g6
      refine ⟨_, rfl, ?_⟩
      refine ⟨hb6, ?_⟩
      simp only [Act.put, List.setIfInBounds_toArray, List.set_cons_zero, List.set_cons_succ]
      refine at_takeD (i := 6) (m' := 127) (d := some 20) (v := .pointer (some ⟨H, k, none⟩)) rw4reg rfl (by decide) rfl rfl (y_ix0 (wanted_free rfl) rfl rfl rfl Tryz.underlying48 (by kernel_rfl) hiP) hb6 ?_
      simp only [Act.put, List.setIfInBounds_toArray, List.set_cons_zero, List.set_cons_succ]
      refine at_one (i := 7) (m' := 255) rw4reg (by decide) rfl ?_
      refine p_store_plain (P := Tryz.prog) rfl rfl rfl rfl rfl rfl Tryz.underlying23 rfl (by kernel_rfl) (hKf _ kb).1 (hKf _ kb).2 ?_
      have hb8 := hb6.setCell k (.slice va 32 vc)
      have hKn := hSet _ kb _ ov
      refine ⟨hb8, ?_⟩
      refine at_done rw4reg (by decide) ?_
      go_wp2
      obtain ⟨hI, hk1, hk2, hKr, hlt⟩ := HQ.out
      go_roundw
      case rel => exact ⟨k + 1, by omega, by have := HX.out.1; omega, vint (by omega), hKn, hbr.trans hb8⟩
      case measure => simp [intOf]; omega
    · obtain rfl : k = T := by omega
      have hge : ¬ ((k : Int) < (k : Int)) := by omega
      have HQ := hide (And.intro hKr hbr)
      clear hlt hT hN h1 hfN hfl hS hk1 hk2 hb0 hKr hbr
      go_wp2
      go_end0
      obtain ⟨hT, hN, h1, hfN, hfl, hS, hb0⟩ := HX.out
      obtain ⟨hKr, hbr⟩ := HQ.out
      refine ⟨rfl, hb0.trans hbr, hKr.mono fun j hj hj2 => ?_⟩
      unfold upS
      omega
end Go.Proofs.YtogiballdmgcpaaGreatDoor
