/- Leaves that sign once, the program's own: Candidate. -/
import Derived.Test.YtogiballdmgcpaaGreatDoorLcG
import Derived.Test.YtogiballdmgcpaaGreatDoorHTak64
namespace Go.Proofs.YtogiballdmgcpaaGreatDoor
open Go.RowKit
set_option linter.unusedVariables false
set_option linter.unusedSimpArgs false

section
variable {ops : Array Oper} {S : World → Prop}
theorem y_toC {o : Oper} {a : Act} {x y : Operand} {aa : Option Addr} {n c F : Nat} (hw : Region.wanted o (yielded ops a.tmps) = true) (ho : o.op = .slice 23 x none (some y) none) (hx : a.eval x = .slice aa n c) (hy : a.eval y = .int .i64 (F : Int)) (hF : F ≤ c) : YieldsIf Tryz.prog ops S o (.slice aa F c) a := by
  refine y_ofG hw fun w _ => ?_
  have h := slice_to aa n c F hF w
  unfold execOp
  simp only [ho, hx, Option.map_none, Option.map_some, hy]
  simp [Instr.sliceAt, Sem.run_bind, h, run_underlying Tryz.underlying23, go_sem]
theorem y_fromC {o : Oper} {a : Act} {x y : Operand} {v u : Value} {F : Nat} (hw : Region.wanted o (yielded ops a.tmps) = true) (ho : o.op = .slice 23 x (some y) none none) (hx : a.eval x = v) (hy : a.eval y = .int .i64 (F : Int)) (hr : ∀ w : World, (Instr.slice 23 v (some (.int .i64 (F : Int))) none none).run Tryz.prog w = .ok u w) (hv : ∃ aa n c, v = .slice aa n c) : YieldsIf Tryz.prog ops S o u a := by
  obtain ⟨aa, n, c, rfl⟩ := hv
  refine y_ofG hw fun w _ => ?_
  have h := hr w
  unfold execOp
  simp only [ho, hx, Option.map_none, Option.map_some, hy]
  simp [Instr.sliceAt, Sem.run_bind, h, run_underlying Tryz.underlying23, go_sem]
theorem y_midC {o : Oper} {a : Act} {x y z : Operand} {u : Value} {aa : Option Addr} {n c F G : Nat} (hw : Region.wanted o (yielded ops a.tmps) = true) (ho : o.op = .slice 23 x (some y) (some z) none) (hx : a.eval x = .slice aa n c) (hy : a.eval y = .int .i64 (F : Int)) (hz : a.eval z = .int .i64 (G : Int)) (hr : ∀ w : World, (Instr.slice 23 (.slice aa n c) (some (.int .i64 (F : Int))) (some (.int .i64 (G : Int))) none).run Tryz.prog w = .ok u w) : YieldsIf Tryz.prog ops S o u a := by
  refine y_ofG hw fun w _ => ?_
  have h := hr w
  unfold execOp
  simp only [ho, hx, Option.map_none, Option.map_some, hy, hz]
  simp [Instr.sliceAt, Sem.run_bind, h, run_underlying Tryz.underlying23, go_sem]
end
theorem mid_run {b o n c F G L : Nat} (hF : F < c) (hG : G ≤ c) (hL : F + L = G) (w : World) : (Instr.slice 23 (.slice (some ⟨b, o, none⟩) n c) (some (.int .i64 (F : Int))) (some (.int .i64 (G : Int))) none).run Tryz.prog w = .ok (.slice (some ⟨b, o + F, none⟩) L (c - F)) w := by
  obtain ⟨A, h1, h2⟩ := slice_mid (some ⟨b, o, none⟩) n c F G (by omega) hG
  rcases h2 with ⟨_, h2⟩ | rfl
  · omega
  · rw [h1 w, show G - F = L by omega]; simp only [Option.map_some, Addr.add]; by_cases h0 : F = 0 <;> simp [h0]
theorem from_run {b o n c F L : Nat} (hF : F < c) (hn : n ≤ c) (hL : F + L = n) (w : World) : (Instr.slice 23 (.slice (some ⟨b, o, none⟩) n c) (some (.int .i64 (F : Int))) none none).run Tryz.prog w = .ok (.slice (some ⟨b, o + F, none⟩) L (c - F)) w := by
  obtain ⟨A, h1, h2⟩ := slice_from (some ⟨b, o, none⟩) n c F (by omega) hn
  rcases h2 with ⟨_, h2⟩ | rfl
  · omega
  · rw [h1 w, show n - F = L by omega]; simp only [Option.map_some, Addr.add]; by_cases h0 : F = 0 <;> simp [h0]
def cn4lt : List Lt := [(0, some 29, [4]), (1, some 30, [29]), (0, some 31, [12]), (4, some 32, [31]), (8, some 33, [32]), (18, some 34, [30, 33]), (48, some 35, [34]), (64, some 36, [4, 35]), (192, some 37, [36, 35]), (64, some 38, [12, 35]), (576, some 39, [38, 35]), (1088, some 40, [39, 35]), (2368, some 41, [37, 40, 35]), (4160, some 42, [41, 35]), (8256, some 43, [35, 42])]
theorem cn4reg : Reg (opsA (cLA (cLA (cRA (cRA (cRA (Tryz.f61.body.getD .skip))))))) cn4lt := ⟨by kernel_rfl, by kernel_rfl⟩
def cn6lt : List Lt := [(0, some 44, [4]), (1, some 45, [44]), (0, some 46, [4]), (4, some 47, [46]), (3, some 14, [45]), (31, some 15, [47])]
theorem cn6reg : Reg (opsA (cLA (cRA (cRA (cRA (cRA (Tryz.f61.body.getD .skip))))))) cn6lt := ⟨by kernel_rfl, by kernel_rfl⟩
def cn8lt : List Lt := [(0, some 52, [12]), (1, some 53, [52]), (0, some 54, [12]), (0, some 55, [14]), (0, some 56, [3]), (24, some 57, [55, 56]), (36, some 58, [54, 57]), (66, some 59, [53, 58]), (128, some 60, [59]), (0, some 61, [])]
theorem cn8reg : Reg (opsA (cLA (cLA (cRA (cRA (cRA (cRA (cRA (cRA (Tryz.f61.body.getD .skip)))))))))) cn8lt := ⟨by kernel_rfl, by kernel_rfl⟩
def cn11lt : List Lt := [(0, some 66, [16]), (0, some 67, [17]), (0, some 68, [12]), (0, some 69, [17]), (0, some 70, [15]), (0, some 71, [17]), (32, some 72, [71]), (0, some 73, [17]), (128, some 74, [73]), (256, some 75, [74]), (592, some 76, [70, 72, 75]), (0, some 77, [18]), (0, some 78, [12]), (4096, some 79, [78]), (8192, some 80, [79]), (19468, some 81, [68, 69, 76, 77, 80]), (65535, some 82, [66, 67]), (131071, none, [82, 81])]
theorem cn11reg : Reg (opsA (cRA (cBA (cLA (cRA (cRA (cLpA (cBA (cRA (cLA (cRA (cRA (cRA (cRA (cRA (cRA (Tryz.f61.body.getD .skip))))))))))))))))) cn11lt := ⟨by kernel_rfl, by kernel_rfl⟩
set_option maxHeartbeats 8000000 in
set_option maxRecDepth 100000 in
theorem ccnd_ok {k n m s c P : Nat} (h : Kd k n m s c) (hP : P = n + m) (q : Nat) (id text sig : List Nat) (idv tv sv : Value) (w : World) (hT : Roots w) (hi : Row .u8 256 w idv id) (ti : Tidy idv) (ht : Row .u8 256 w tv text) (tt : Tidy tv) (hs : Row .u8 256 w sv sig) (hl : id.length = 16) (htl : text.length ≤ 10000) (hq : q < 4294967296) (hsl : sig.length = 36 + 32 * P) (hc : sig.take 4 = be4 c) :
    Calls Tryz.prog 61 #[.int .i64 (k : Int), idv, .int .u32 (q : Int), tv, sv] w fun e w' => ∃ v, e = .returned (.tuple #[v, .int .i64 0]) ∧ Own 5 .u8 256 w' w.heap.size v (keyH shaL (preL id q) (endsC shaL (preL id q) (2 ^ k - 1) (digsL k n m s (digH shaL (preL id q) ((sig.drop 4).take 32) text)) sig)) ∧ Below w.heap.size w w' := by
  have hsec := cleaf_ok h hP q id idv w hi ti hl hq
  obtain ⟨tva, tvc, rfl, _⟩ := ht.opens rfl
  obtain ⟨ia, ic, rfl, _⟩ := hi.opens hl
  obtain ⟨p1, p2, p3, p4, p5, p6, p7⟩ := h.pos
  obtain ⟨q1, q2, q3, q4, q5, q6, q7⟩ := h.more
  have hP1 : P ≤ 265 := by omega
  have p1P : 1 ≤ P := by omega
  have hsz := fun y => ksize_any k P s c y (by omega)
  have hcd := fun y => kcode_any k P s c y (by omega)
  have htop := fun y => ktop_ok h hP y
  obtain ⟨R, hR⟩ : ∃ R : Nat, R = 32 * P := ⟨_, rfl⟩
  obtain ⟨Z, hZ⟩ : ∃ Z : Nat, Z = 36 + R := ⟨_, rfl⟩
  rw [← hR, ← hZ] at hsz hsl
  obtain ⟨sa, sc, rfl, lc1, lc2, ho⟩ := hs.opens hsl
  obtain ⟨sb, so, rfl, _⟩ := ho (by omega)
  have r4 : Row .u8 256 w (.slice (some ⟨sb, so, none⟩) 4 sc) (sig.take 4) := hs.cut (M := 4) (by omega)
  have h4c : 4 ≤ sc := by omega
  have hsame := fun y bv (ra : Row .u8 256 y (.slice (some ⟨sb, so, none⟩) 4 sc) (sig.take 4)) (rb : Row .u8 256 y bv (be4 c)) => bsame_any _ bv _ _ y ra rb
  rw [decide_eq_true hc] at hsame
  obtain ⟨rc, hrc⟩ : ∃ x, x = sc - 36 := ⟨_, rfl⟩
  obtain ⟨ro, hro⟩ : ∃ x, x = so + 36 := ⟨_, rfl⟩
  have hm4 := fun w => mid_run (b := sb) (o := so) (n := Z) (c := sc) (F := 4) (G := 36) (L := 32) (by omega) (by omega) (by decide) w
  have hf36 := fun w => from_run (b := sb) (o := so) (n := Z) (c := sc) (F := 36) (L := R) (by omega) (by omega) (by omega) w
  rw [← hrc, ← hro] at hf36
  obtain ⟨cc, hcc⟩ : ∃ x, x = sc - 4 := ⟨_, rfl⟩
  obtain ⟨co, hco⟩ : ∃ x, x = so + 4 := ⟨_, rfl⟩
  rw [← hcc, ← hco] at hm4
  have rC : Row .u8 256 w (.slice (some ⟨sb, co, none⟩) 32 cc) ((sig.drop 4).take 32) := by rw [hcc, hco]; exact hs.mid (i := 4) (j := 36) (by decide) (by omega)
  obtain ⟨Cn, hCn⟩ : ∃ x, x = (sig.drop 4).take 32 := ⟨_, rfl⟩
  have hCl : Cn.length = 32 := by rw [hCn, List.length_take, List.length_drop]; omega
  have tC : Tidy (.slice (some ⟨sb, co, none⟩) 32 cc) := fun n c e => by cases e
  rw [← hCn] at rC ⊢
  have hcut : ∀ i F G, i < P → F = i * 32 → G = (i + 1) * 32 → ∀ w, (Instr.slice 23 (.slice (some ⟨sb, ro, none⟩) R rc) (some (.int .i64 (F : Int))) (some (.int .i64 (G : Int))) none).run Tryz.prog w = .ok (.slice (some ⟨sb, ro + F, none⟩) 32 (rc - F)) w := fun i F G hi hF hG w => mid_run (by omega) (by omega) (by omega) w
  have rP : ∀ i F, i < P → F = i * 32 → Row .u8 256 w (.slice (some ⟨sb, ro + F, none⟩) 32 (rc - F)) ((sig.drop (36 + 32 * i)).take 32) := fun i F hi hF => by
    have := hs.mid (i := 36 + 32 * i) (j := 68 + 32 * i) (by omega) (by omega)
    rw [show 68 + 32 * i - (36 + 32 * i) = 32 by omega, show so + (36 + 32 * i) = ro + F by omega, show sc - (36 + 32 * i) = rc - F by omega] at this
    exact this
  have hPl : ∀ i, i < P → ((sig.drop (36 + 32 * i)).take 32).length = 32 := fun i h => by rw [List.length_take, List.length_drop]; omega
  have hdg := fun y dv d (r : Row .u8 256 y dv d) (td : Tidy dv) (hd : d.length = 32) => kdigs_any h hP d dv y r td hd
  have hds : ∀ d, (digsL k n m s d).length = P := fun d => by rw [hP]; exact digs_len _
  obtain ⟨M, hM⟩ : ∃ M, M = 2 ^ k - 1 := ⟨_, rfl⟩
  have hdb : ∀ d i, el (digsL k n m s d) i ≤ M := fun d i => by rw [hM]; exact el_le_of (digs_lt _) i
  rw [← hM] at htop q3 ⊢
  have hpl : (preL id q).length = 20 := by rw [len_pre, hl]
  obtain ⟨pre, hpre⟩ : ∃ x, x = preL id q := ⟨_, rfl⟩
  rw [← hpre] at hsec hpl ⊢
  have hal : ∀ (i D : Nat) (hi' : i < 65536) (hD : D ≤ M) (y0 : List Nat) (hy0 : y0.length = 32) y av yv (hTy : Roots y) (ra : Row .u8 256 y av pre) (ta : Tidy av) (ry : Row .u8 256 y yv y0) (ty : Tidy yv), Calls Tryz.prog 96 #[.agg #[.int .i64 (k : Int), .int .i64 (P : Int), .int .i64 (s : Int), .int .u64 (c : Int), av], .int .i64 (i : Int), yv, .int .u32 (D : Int), .int .u32 (M : Int)] y fun e w' => ∃ v, e = .returned v ∧ Row .u8 256 w' v (chN shaL pre i D (M - D) y0) ∧ Tidy v ∧ (New y.heap.size v ∨ v = yv) ∧ Below y.heap.size y w' := fun i D hi' hD y0 hy0 y av yv hTy ra ta ry ty => by
    have := calong_any k P s c i D (M - D) pre y0 av yv y hTy ra ta ry ty hi' (by omega) hy0 (by omega)
    rw [show D + (M - D) = M by omega] at this
    exact this
  obtain ⟨Dg, hDg⟩ : ∃ x, x = digH shaL pre Cn text := ⟨_, rfl⟩
  have hDl : Dg.length = 32 := by rw [hDg]; exact shaL_len _
  have hsm : ∀ y av mv, Roots y → Row .u8 256 y av pre → Tidy av → Rows2 y mv [Cn, text] → Calls Tryz.prog 95 #[.agg #[.int .i64 (k : Int), .int .i64 (P : Int), .int .i64 (s : Int), .int .u64 (c : Int), av], .int .u64 33153, mv] y fun e w' => ∃ v, e = .returned v ∧ Own 5 .u8 256 w' y.heap.size v Dg ∧ Below y.heap.size y w' := fun y av mv hTy ra ta rm => by
    have := csum_any k P s c 33153 pre [Cn, text] av mv y hTy ra ta rm (by decide) (by simp only [List.flatten_cons, List.flatten_nil, List.append_nil, List.length_append]; omega) (by simp)
    rw [hDg]
    unfold digH
    simpa using this
  rw [← hDg]
  obtain ⟨ds, hdse⟩ : ∃ x, x = digsL k n m s Dg := ⟨_, rfl⟩
  have hdl : ds.length = P := by rw [hdse]; exact hds _
  have hdb' : ∀ i, el ds i ≤ M := fun i => by rw [hdse]; exact hdb _ i
  have hdg' := fun y dv (r : Row .u8 256 y dv Dg) (td : Tidy dv) => hdg y dv Dg r td hDl
  rw [← hdse] at hdg' ⊢
  have hC : ∀ i D, i < P → (chN shaL pre i D (M - D) ((sig.drop (36 + 32 * i)).take 32)).length = 32 := fun i D hi => chN_len shaL_len i _ _ (hPl i hi) _
  have hsk := fun y av mv ps (hTy : Roots y) (ra : Row .u8 256 y av pre) (ta : Tidy av) (rm : Rows2 y mv ps) (hps : ps.length ≤ 265) (hfl : ps.flatten.length ≤ 32 * 265) => csum_any k P s c 32896 pre ps av mv y hTy ra ta rm (by decide) (by omega) (by omega)
  unfold keyH endsC
  rw [hdl]
  generalize shaL = HH at *
  obtain ⟨f, hf⟩ : ∃ f : Nat → List Nat, f = fun i => chN HH pre i (el ds i) (M - el ds i) ((sig.drop (36 + 32 * i)).take 32) := ⟨_, rfl⟩
  rw [← hf]
  have hfi : ∀ i, chN HH pre i (el ds i) (M - el ds i) ((sig.drop (36 + 32 * i)).take 32) = f i := fun i => by rw [hf]
  have hfC : ∀ i, i < P → (f i).length = 32 := fun i hi => by rw [← hfi]; exact hC i _ hi
  have hps : ((List.range P).map f).length ≤ 265 := by simpa using hP1
  have hfl : ((List.range P).map f).flatten.length ≤ 32 * 265 := by
    rw [flat_32_len _ (fun p hp => by obtain ⟨i, hi, rfl⟩ := List.mem_map.1 hp; exact hfC i (by simpa using hi))]
    omega
  obtain ⟨i0, hi0, hz0, hz1, hz2⟩ := info_text
  have HX := hide (And.intro hPl (And.intro hfi (And.intro hfC (And.intro hP1 (And.intro p1P (And.intro hdb' hdl))))))
  have HS := hide (And.intro hT (And.intro ht tt))
  have HR := hide (And.intro rC (And.intro tC (And.intro rP hcut)))
  have HF := hide (And.intro hps hfl)
  have HL := hide (And.intro hCl hDl)
  have halH := hide hal
  have hskH := hide hsk
  have hsmH := hide hsm
  have hmH := hide (And.intro hm4 hf36)
  have HM := hide (show M ≤ 255 by omega)
  clear hPl hfi hfC hC hs hT hfl hal hpre hP h hf hi p1 q1 q2 q3 q4 q5 p5 hds hdb hdb' hdl hsk hsm hDl hCn hDg hdse hdg ht tt htl hP1 p1P rC tC rP hcut hps hm4 hf36 hZ hR hsl ho hc hrc hro hcc hco hM hl hCl
  go_enter Tryz.func61, Tryz.ntmps61
  go_wp2_with (first
    | (go_at_call 91; refine hsec.mono ?_; rintro e w1 ⟨av, rfl, oa, g1⟩; obtain ⟨aa, ac, rfl, _⟩ := oa.row.opens hpl; have bx := BxL.new w1 (.int .i64 (k : Int)) (.int .i64 (P : Int)) (.int .i64 (s : Int)) (.int .u64 (c : Int)) (.slice aa 20 ac); have kx := keep_trans g1 (keep_alloc w1 (.cells #[.int .i64 (k : Int), .int .i64 (P : Int), .int .i64 (s : Int), .int .u64 (c : Int), .slice aa 20 ac] 126)); have taa := oa.tidy; have ra1 := oa.row.below (keep_alloc w1 (.cells #[.int .i64 (k : Int), .int .i64 (P : Int), .int .i64 (s : Int), .int .u64 (c : Int), .slice aa 20 ac] 126)))
    | fail)
  generalize w1.heap.size = X at *
  generalize w1.alloc (.cells #[.int .i64 (k : Int), .int .i64 (P : Int), .int .i64 (s : Int), .int .u64 (c : Int), .slice aa 20 ac] 126) = W1 at *
  have hbd : Below W1.heap.size W1 W1.drew := (Below.refl _ _).drew
  have r4 := r4.below kx
  refine at_begin (ops := opsA (cLA (cLA (cRA (cRA (cRA (Tryz.f61.body.getD .skip))))))) (n := 15) (fun y => Below W1.heap.size W1 y) (by kernel_rfl) (by kernel_rfl) ?_
  refine at_takeD (i := 0) (m' := 1) (d := some 29) (v := .slice (some ⟨sb, so, none⟩) Z sc) cn4reg rfl (by decide) rfl rfl (y_moveG (wanted_free rfl) rfl rfl) hbd ?_
  simp only [Act.put, List.setIfInBounds_toArray, List.set_cons_zero, List.set_cons_succ]
  refine at_takeD (i := 1) (m' := 3) (d := some 30) (v := .int .i64 (Z : Int)) cn4reg rfl (by decide) rfl rfl (y_lenP (wanted_free rfl) rfl rfl Tryz.underlying23) hbd ?_
  simp only [Act.put, List.setIfInBounds_toArray, List.set_cons_zero, List.set_cons_succ]
  refine at_takeD (i := 2) (m' := 7) (d := some 31) (v := .pointer (some ⟨X, 0, none⟩)) cn4reg rfl (by decide) rfl rfl (y_fieldG (wanted_free rfl) rfl rfl (fun w => by simp [go_sem])) hbd ?_
  simp only [Act.put, List.setIfInBounds_toArray, List.set_cons_zero, List.set_cons_succ]
  refine at_takeD (i := 3) (m' := 15) (d := some 32) (v := .agg #[.int .i64 (k : Int), .int .i64 (P : Int), .int .i64 (s : Int), .int .u64 (c : Int)]) cn4reg rfl (by decide) rfl rfl (y_rowG (cs := [.int .i64 (k : Int), .int .i64 (P : Int), .int .i64 (s : Int), .int .u64 (c : Int)]) (wanted_free rfl) rfl rfl Tryz.underlying124 rfl (by kernel_rfl) (fun _ h => (bx.below h).range4)) hbd ?_
  simp only [Act.put, List.setIfInBounds_toArray, List.set_cons_zero, List.set_cons_succ]
  refine at_one (i := 4) (m' := 31) cn4reg (by decide) rfl ?_
  refine p_callG (args := #[.agg #[.int .i64 (k : Int), .int .i64 (P : Int), .int .i64 (s : Int), .int .u64 (c : Int)]]) (d := some 33) rfl (wanted_free rfl) rfl (by simp only [List.map_toArray, List.map_cons, List.map_nil]; rfl) rfl Tryz.call92 ((hsz W1.drew).mono ?_)
  rintro e y5 ⟨rfl, g5⟩
  have hb5 := keep_trans hbd g5
  refine ⟨_, rfl, hb5, ?_⟩
  simp only [Act.put, List.setIfInBounds_toArray, List.set_cons_zero, List.set_cons_succ]
  refine at_takeD (i := 5) (m' := 63) (d := some 34) (v := .bool false) cn4reg rfl (by decide) rfl rfl (y_neI (wanted_free rfl) rfl rfl rfl Tryz.underlying3 (by simp)) hb5 ?_
  simp only [Act.put, List.setIfInBounds_toArray, List.set_cons_zero, List.set_cons_succ]
  refine at_takeD (i := 6) (m' := 127) (d := some 35) (v := .bool false) cn4reg rfl (by decide) rfl rfl (y_moveG (wanted_free rfl) rfl rfl) hb5 ?_
  simp only [Act.put, List.setIfInBounds_toArray, List.set_cons_zero, List.set_cons_succ]
  refine at_takeD (i := 7) (m' := 255) (d := some 36) (v := .slice (some ⟨sb, so, none⟩) Z sc) cn4reg rfl (by decide) rfl rfl (y_moveG (wanted_gG (j := 6) (d := 35) (b := false) rfl rfl rfl rfl) rfl rfl) hb5 ?_
  simp only [Act.put, List.setIfInBounds_toArray, List.set_cons_zero, List.set_cons_succ]
  refine at_takeD (i := 8) (m' := 511) (d := some 37) (v := .slice (some ⟨sb, so, none⟩) 4 sc) cn4reg rfl (by decide) rfl rfl (y_toC (wanted_gG (j := 6) (d := 35) (b := false) rfl rfl rfl rfl) rfl rfl rfl h4c) hb5 ?_
  simp only [Act.put, List.setIfInBounds_toArray, List.set_cons_zero, List.set_cons_succ]
  refine at_takeD (i := 9) (m' := 1023) (d := some 38) (v := .pointer (some ⟨X, 0, none⟩)) cn4reg rfl (by decide) rfl rfl (y_fieldG (wanted_gG (j := 6) (d := 35) (b := false) rfl rfl rfl rfl) rfl rfl (fun w => by simp [go_sem])) hb5 ?_
  simp only [Act.put, List.setIfInBounds_toArray, List.set_cons_zero, List.set_cons_succ]
  refine at_takeD (i := 10) (m' := 2047) (d := some 39) (v := .agg #[.int .i64 (k : Int), .int .i64 (P : Int), .int .i64 (s : Int), .int .u64 (c : Int)]) cn4reg rfl (by decide) rfl rfl (y_rowG (cs := [.int .i64 (k : Int), .int .i64 (P : Int), .int .i64 (s : Int), .int .u64 (c : Int)]) (wanted_gG (j := 6) (d := 35) (b := false) rfl rfl rfl rfl) rfl rfl Tryz.underlying124 rfl (by kernel_rfl) (fun _ h => (bx.below h).range4)) hb5 ?_
  simp only [Act.put, List.setIfInBounds_toArray, List.set_cons_zero, List.set_cons_succ]
  refine at_one (i := 11) (m' := 4095) cn4reg (by decide) rfl ?_
  refine p_callG (args := #[.agg #[.int .i64 (k : Int), .int .i64 (P : Int), .int .i64 (s : Int), .int .u64 (c : Int)]]) (d := some 40) rfl (wanted_gG (j := 6) (d := 35) (b := false) rfl rfl rfl rfl) rfl (by simp only [List.map_toArray, List.map_cons, List.map_nil]; rfl) rfl Tryz.call93 ((hcd y5).mono ?_)
  rintro e y12 ⟨bv, rfl, ob, g12⟩
  obtain ⟨ba, bc, rfl, _⟩ := ob.row.opens (be4_len c)
  have rb := ob.row
  have hb12 := keep_trans hb5 g12
  refine ⟨_, rfl, hb12, ?_⟩
  simp only [Act.put, List.setIfInBounds_toArray, List.set_cons_zero, List.set_cons_succ]
  refine at_one (i := 12) (m' := 8191) cn4reg (by decide) rfl ?_
  refine p_callG (args := #[.slice (some ⟨sb, so, none⟩) 4 sc, .slice ba 4 bc]) (d := some 41) rfl (wanted_gG (j := 6) (d := 35) (b := false) rfl rfl rfl rfl) rfl (by simp only [List.map_toArray, List.map_cons, List.map_nil]; rfl) rfl Tryz.call63 ((hsame y12 _ (r4.below hb12) rb).mono ?_)
  rintro e y13 ⟨rfl, g13⟩
  have hb13 := keep_trans hb12 g13
  refine ⟨_, rfl, hb13, ?_⟩
  simp only [Act.put, List.setIfInBounds_toArray, List.set_cons_zero, List.set_cons_succ]
  refine at_takeD (i := 13) (m' := 16383) (d := some 42) (v := .bool false) cn4reg rfl (by decide) rfl rfl (y_notG (b := true) (wanted_gG (j := 6) (d := 35) (b := false) rfl rfl rfl rfl) rfl rfl) hb13 ?_
  simp only [Act.put, List.setIfInBounds_toArray, List.set_cons_zero, List.set_cons_succ]
  refine at_takeD (i := 14) (m' := 32767) (d := some 43) (v := .bool false) cn4reg rfl (by decide) rfl rfl (y_pickEG (wanted_free rfl) rfl rfl rfl) hb13 ?_
  simp only [Act.put, List.setIfInBounds_toArray, List.set_cons_zero, List.set_cons_succ]
  refine at_done cn4reg (by decide) ?_
  have hk4 := hb13
  have bx4 := bx.below hk4
  have ra4 := ra1.below hk4
  have hb4 := keep_trans kx hk4
  clear bx ra1 r4 oa g1 kx hk4 hbd
  go_wp2
  obtain ⟨hm4, hf36⟩ := hmH.out
  have hbd : Below y13.heap.size y13 y13.drew := (Below.refl _ _).drew
  refine at_begin (ops := opsA (cLA (cRA (cRA (cRA (cRA (Tryz.f61.body.getD .skip))))))) (n := 6) (fun y => Below y13.heap.size y13 y) (by kernel_rfl) (by kernel_rfl) ?_
  refine at_takeD (i := 0) (m' := 1) (d := some 44) (v := .slice (some ⟨sb, so, none⟩) Z sc) cn6reg rfl (by decide) rfl rfl (y_moveG (wanted_free rfl) rfl rfl) hbd ?_
  simp only [Act.put, List.setIfInBounds_toArray, List.set_cons_zero, List.set_cons_succ]
  refine at_takeD (i := 1) (m' := 3) (d := some 45) (v := .slice (some ⟨sb, co, none⟩) 32 cc) cn6reg rfl (by decide) rfl rfl (y_midC (wanted_free rfl) rfl rfl rfl rfl hm4) hbd ?_
  simp only [Act.put, List.setIfInBounds_toArray, List.set_cons_zero, List.set_cons_succ]
  refine at_takeD (i := 2) (m' := 7) (d := some 46) (v := .slice (some ⟨sb, so, none⟩) Z sc) cn6reg rfl (by decide) rfl rfl (y_moveG (wanted_free rfl) rfl rfl) hbd ?_
  simp only [Act.put, List.setIfInBounds_toArray, List.set_cons_zero, List.set_cons_succ]
  refine at_takeD (i := 3) (m' := 15) (d := some 47) (v := .slice (some ⟨sb, ro, none⟩) R rc) cn6reg rfl (by decide) rfl rfl (y_fromC (wanted_free rfl) rfl rfl rfl hf36 ⟨_, _, _, rfl⟩) hbd ?_
  simp only [Act.put, List.setIfInBounds_toArray, List.set_cons_zero, List.set_cons_succ]
  refine at_takeD (i := 4) (m' := 31) (d := some 14) (v := .slice (some ⟨sb, co, none⟩) 32 cc) cn6reg rfl (by decide) rfl rfl (y_assignG (wanted_free rfl) rfl rfl) hbd ?_
  simp only [Act.put, List.setIfInBounds_toArray, List.set_cons_zero, List.set_cons_succ]
  refine at_takeD (i := 5) (m' := 63) (d := some 15) (v := .slice (some ⟨sb, ro, none⟩) R rc) cn6reg rfl (by decide) rfl rfl (y_assignG (wanted_free rfl) rfl rfl) hbd ?_
  simp only [Act.put, List.setIfInBounds_toArray, List.set_cons_zero, List.set_cons_succ]
  refine at_done cn6reg (by decide) ?_
  clear hm4 hf36
  have bx5 := bx4.below hbd
  have ra5 := ra4.below hbd
  have hb5 := keep_trans hb4 hbd
  have cP : y13.drew.cell? ⟨X, 1, none⟩ = some (.int .i64 (P : Int)) := bx5.range 1 _ rfl
  clear bx4 ra4 hb4 hbd
  generalize y13.drew = w2 at *
  go_wp2_with (first
    | (at_make; refine wpList_make_full _ rfl _ _ 48 rfl w2.heap.size 23 i0 (.slice none 0 0) 1 Tryz.underlying48 hi0 hz0 hz1 _ _ _ _ P rfl rfl rfl rfl (by rw [hz2]; have := HX.out.2.2.2.1; omega) (by have := HX.out.2.2.2.1; unfold maxLen; omega) (Nat.le_refl _) ?_; intro w3 hown hgrow; have hbg := (Below.refl w2.heap.size w2).grown hgrow (Nat.le_refl _) (fun k h => by cases h))
    | fail)
  have hb3 := keep_trans hb5 hbg
  have hU := UpS.made f hown
  have bx3 := bx5.below hbg
  have ra3 := ra5.below hbg
  have haw : Away w2.heap.size (.slice aa 20 ac) pre := ra5.away (Nat.le_refl _)
  have hXH : X ≠ w2.heap.size := by have := bx5.lt; omega
  have hwH : w.heap.size ≤ w2.heap.size := hb5.size
  have hT3 := HS.out.1.below hb3
  have rt3 := HS.out.2.1.below hb3
  have tt := HS.out.2.2
  have rc3 := HR.out.1.below hb3
  have tcc := HR.out.2.1
  have hDl := HL.out.2
  have hdl := HX.out.2.2.2.2.2.2
  have hP0 := HX.out.2.2.2.2.1
  have hsm := hsmH.out
  have hdg := hdg'
  generalize w2.heap.size = H at *
  have hbd : Below w3.heap.size w3 w3.drew := (Below.refl _ _).drew
  refine at_begin (ops := opsA (cLA (cLA (cRA (cRA (cRA (cRA (cRA (cRA (Tryz.f61.body.getD .skip)))))))))) (n := 10) (fun y => Below w3.heap.size w3 y) (by kernel_rfl) (by kernel_rfl) ?_
  refine at_takeD (i := 0) (m' := 1) (d := some 52) (v := .pointer (some ⟨X, 0, none⟩)) cn8reg rfl (by decide) rfl rfl (y_fieldG (wanted_free rfl) rfl rfl (fun w => by simp [go_sem])) hbd ?_
  simp only [Act.put, List.setIfInBounds_toArray, List.set_cons_zero, List.set_cons_succ]
  refine at_takeD (i := 1) (m' := 3) (d := some 53) (v := .agg #[.int .i64 (k : Int), .int .i64 (P : Int), .int .i64 (s : Int), .int .u64 (c : Int)]) cn8reg rfl (by decide) rfl rfl (y_rowG (cs := [.int .i64 (k : Int), .int .i64 (P : Int), .int .i64 (s : Int), .int .u64 (c : Int)]) (wanted_free rfl) rfl rfl Tryz.underlying124 rfl (by kernel_rfl) (fun _ h => (bx3.below h).range4)) hbd ?_
  simp only [Act.put, List.setIfInBounds_toArray, List.set_cons_zero, List.set_cons_succ]
  refine at_takeD (i := 2) (m' := 7) (d := some 54) (v := .agg #[.int .i64 (k : Int), .int .i64 (P : Int), .int .i64 (s : Int), .int .u64 (c : Int), .slice aa 20 ac]) cn8reg rfl (by decide) rfl rfl (y_rowG (cs := [.int .i64 (k : Int), .int .i64 (P : Int), .int .i64 (s : Int), .int .u64 (c : Int), .slice aa 20 ac]) (wanted_free rfl) rfl rfl Tryz.underlying126 rfl (by kernel_rfl) (fun _ h => (bx3.below h).range)) hbd ?_
  simp only [Act.put, List.setIfInBounds_toArray, List.set_cons_zero, List.set_cons_succ]
  refine at_takeD (i := 3) (m' := 15) (d := some 55) (v := .slice (some ⟨sb, co, none⟩) 32 cc) cn8reg rfl (by decide) rfl rfl (y_moveG (wanted_free rfl) rfl rfl) hbd ?_
  simp only [Act.put, List.setIfInBounds_toArray, List.set_cons_zero, List.set_cons_succ]
  refine at_takeD (i := 4) (m' := 31) (d := some 56) (v := .slice tva text.length tvc) cn8reg rfl (by decide) rfl rfl (y_moveG (wanted_free rfl) rfl rfl) hbd ?_
  simp only [Act.put, List.setIfInBounds_toArray, List.set_cons_zero, List.set_cons_succ]
  refine at_takeD (i := 9) (m' := 543) (d := some 61) (v := .int .i64 0) cn8reg rfl (by decide) rfl rfl (y_moveG (wanted_free rfl) rfl rfl) hbd ?_
  simp only [Act.put, List.setIfInBounds_toArray, List.set_cons_zero, List.set_cons_succ]
  refine at_one (i := 5) (m' := 575) cn8reg (by decide) rfl ?_
  refine p_build2G (d := some 57) rfl (wanted_free rfl) rfl rfl rfl rfl Tryz.underlying48 hi0 hz1 hz0 ?_
  have hb7 := keep_trans hbd (keep_alloc w3.drew (.cells #[.slice (some ⟨sb, co, none⟩) 32 cc, .slice tva text.length tvc] 23))
  have rr := rows_litL (B := w3.drew.heap.size) (k := 2) (texts_cons (rc3.below hbd) tcc (texts_cons (rt3.below hbd) tt (Texts.nil _))) rfl rfl (by decide)
  refine ⟨hb7, ?_⟩
  simp only [Act.put, List.setIfInBounds_toArray, List.set_cons_zero, List.set_cons_succ]
  refine at_one (i := 6) (m' := 639) cn8reg (by decide) rfl ?_
  refine p_callG (args := #[.agg #[.int .i64 (k : Int), .int .i64 (P : Int), .int .i64 (s : Int), .int .u64 (c : Int), .slice aa 20 ac], .int .u64 33153, .slice (some ⟨w3.drew.heap.size, 0, none⟩) 2 2]) (d := some 58) rfl (wanted_free rfl) rfl (by simp only [List.map_toArray, List.map_cons, List.map_nil]; rfl) rfl Tryz.call95 ((hsm (w3.drew.alloc (.cells #[.slice (some ⟨sb, co, none⟩) 32 cc, .slice tva text.length tvc] 23)) _ _ (hT3.below hb7) (ra3.below hb7) taa rr).mono ?_)
  rintro e y8 ⟨dv, rfl, od, g8⟩
  obtain ⟨da, dc, rfl, _⟩ := od.row.opens hDl
  have td := od.tidy
  have rd := od.row
  have hb8 := keep_trans hb7 g8
  refine ⟨_, rfl, hb8, ?_⟩
  simp only [Act.put, List.setIfInBounds_toArray, List.set_cons_zero, List.set_cons_succ]
  refine at_one (i := 7) (m' := 767) cn8reg (by decide) rfl ?_
  refine p_callG (args := #[.agg #[.int .i64 (k : Int), .int .i64 (P : Int), .int .i64 (s : Int), .int .u64 (c : Int)], .slice da 32 dc]) (d := some 59) rfl (wanted_free rfl) rfl (by simp only [List.map_toArray, List.map_cons, List.map_nil]; rfl) rfl Tryz.call94 ((hdg y8 _ rd td).mono ?_)
  rintro e y9 ⟨ev, rfl, oe, g9⟩
  have kbe := hb8
  obtain ⟨ea, ec, rfl, _, _, hoe⟩ := oe.row.opens hdl
  have hb9 := keep_trans hb8 g9
  refine ⟨_, rfl, hb9, ?_⟩
  simp only [Act.put, List.setIfInBounds_toArray, List.set_cons_zero, List.set_cons_succ]
  refine at_takeD (i := 8) (m' := 1023) (d := some 60) (v := .int .i64 (P : Int)) cn8reg rfl (by decide) rfl rfl (y_lenP (wanted_free rfl) rfl rfl Tryz.underlying49) hb9 ?_
  simp only [Act.put, List.setIfInBounds_toArray, List.set_cons_zero, List.set_cons_succ]
  refine at_done cn8reg (by decide) ?_
  have hk6 := hb9
  obtain ⟨eb, eo, rfl, hec⟩ := hoe (by omega)
  have hebH : eb ≠ H := by
    have h1 := oe.new eb (by simp [Value.ownBlock])
    have h2 := kbe.size
    have h3 := hU.lt
    omega
  have hU6 := hU.below hk6
  have H0 := hide (PuL.start f hU6)
  have HA := hide (And.intro (ra3.below hk6) (And.intro taa (And.intro (keep_trans hb3 hk6) (And.intro haw (And.intro (bx3.below hk6) (And.intro hXH (And.intro hwH (And.intro hec hebH))))))))
  have hHy := hU6.lt
  clear hoe hk6 hdl hDl hsm hdg rr hbd hb3 hU bx3 ra3 rc3 haw hT3 rt3 oe hec hU6 tt hown hgrow hbg tcc hb5 bx5 ra5
  go_wp2
  go_loopw [61] (fun vi wr => PuL y9 H P f vi wr) (fun vi _ => P - (intOf vi).toNat)
  case atStart => exact H0.out
  case round =>
    obtain ⟨i, hi', rfl, hUr, hbr⟩ := hrel
    clear H0
    rename World => wr
    obtain ⟨hPl, hfi, hfC, hP1, p1, hdb, hdl⟩ := HX.out
    obtain ⟨oar, ta, hb2, haw, bx2, hXH, hwH, hec, hebH⟩ := HA.out
    obtain ⟨hT, ht, tt⟩ := HS.out
    have bxr := bx2.but hbr hXH
    have hbw := hb2.trans (hbr.below hwH hb2.size)
    have hTr := hT.below hbw
    have har := oar.but haw hbr
    by_cases hlt : i < P
    · have hiP := hlt
      have hii : (i : Int) < (P : Int) := by omega
      have z_i : (0 : Int) ≤ (i : Int) := Int.natCast_nonneg _
      obtain ⟨I, hI⟩ : ∃ I : Nat, I = i + 1 := ⟨_, rfl⟩
      have e_I : (i : Int) + 1 = (I : Int) := by omega
      have s_I : IntKind.i64.wrap (I : Int) = (I : Int) := by rw [IntKind.wrap_i64]; omega
      have ci := But.cell (hec i hlt) hbr hebH
      obtain ⟨D, hD⟩ : ∃ D, D = el ds i := ⟨_, rfl⟩
      have hDb : D ≤ M := by rw [hD]; exact hdb i
      rw [← hD] at ci
      obtain ⟨F, hF⟩ : ∃ F : Nat, F = i * 32 := ⟨_, rfl⟩
      obtain ⟨G, hG⟩ : ∃ G : Nat, G = (i + 1) * 32 := ⟨_, rfl⟩
      have u_F : IntKind.i64.wrap ((i : Int) * 32) = (F : Int) := by rw [show (i : Int) * 32 = (F : Int) by omega, IntKind.wrap_i64]; omega
      have u_I : IntKind.i64.wrap ((i : Int) + 1) = (I : Int) := by rw [e_I]; exact s_I
      have u_G : IntKind.i64.wrap ((I : Int) * 32) = (G : Int) := by rw [show (I : Int) * 32 = (G : Int) by omega, IntKind.wrap_i64]; omega
      have hcutw := HR.out.2.2.2 i F G hlt hF hG
      have rPr := (HR.out.2.2.1 i F hlt hF).below hbw
      have tP : Tidy (.slice (some ⟨sb, ro + F, none⟩) 32 (rc - F)) := fun n c e => by cases e
      have hfi' : chN HH pre i D (M - D) ((sig.drop (36 + 32 * i)).take 32) = f i := by rw [hD]; exact hfi i
      have hCi := hfC i hlt
      have hal := fun y yv hTy ra ry ty => halH.out i D (by omega) hDb _ (hPl i hlt) y (.slice aa 20 ac) yv hTy ra ta ry ty
      simp only [hfi'] at hal
      obtain ⟨po, hpo⟩ : ∃ x, x = ro + F := ⟨_, rfl⟩
      obtain ⟨pc, hpc⟩ : ∃ x, x = rc - F := ⟨_, rfl⟩
      rw [← hpo, ← hpc] at rPr tP
      simp only [← hpo, ← hpc] at hcutw
      have hbd : But H wr wr.drew := (But.refl _ _).drew
      have kb : Below wr.heap.size wr wr.drew := (Below.refl _ _).drew
      have hsb : sb ≠ H := by
        have h1 := (HR.out.2.2.1 i F hlt hF).old (by rw [hPl i hlt]; decide) (q := sb) (by simp [Value.ownBlock])
        omega
      have HK := hide (And.intro hI (And.intro hlt hbr))
      clear hPl hfi hfC hT hI hlt hb2 hbw hwH hP1 hbr oar hi' haw bx2 ht tt hdb hdl hD hDb hfi' hec hF hG hpo hpc
      go_wp2
      refine at_begin (ops := opsA (cRA (cBA (cLA (cRA (cRA (cLpA (cBA (cRA (cLA (cRA (cRA (cRA (cRA (cRA (cRA (Tryz.f61.body.getD .skip))))))))))))))))) (n := 18) (fun y => But H wr y) (by kernel_rfl) (by kernel_rfl) ?_
      refine at_takeD (i := 0) (m' := 1) (d := some 66) (v := .slice (some ⟨H, 0, none⟩) P P) cn11reg rfl (by decide) rfl rfl (y_moveG (wanted_free rfl) rfl rfl) hbd ?_
      simp only [Act.put, List.setIfInBounds_toArray, List.set_cons_zero, List.set_cons_succ]
      refine at_takeD (i := 1) (m' := 3) (d := some 67) (v := .int .i64 (i : Int)) cn11reg rfl (by decide) rfl rfl (y_moveG (wanted_free rfl) rfl rfl) hbd ?_
      simp only [Act.put, List.setIfInBounds_toArray, List.set_cons_zero, List.set_cons_succ]
      refine at_takeD (i := 2) (m' := 7) (d := some 68) (v := .agg #[.int .i64 (k : Int), .int .i64 (P : Int), .int .i64 (s : Int), .int .u64 (c : Int), .slice aa 20 ac]) cn11reg rfl (by decide) rfl rfl (y_rowG (cs := [.int .i64 (k : Int), .int .i64 (P : Int), .int .i64 (s : Int), .int .u64 (c : Int), .slice aa 20 ac]) (wanted_free rfl) rfl rfl Tryz.underlying126 rfl (by kernel_rfl) (fun _ h => (bxr.but h hXH).range)) hbd ?_
      simp only [Act.put, List.setIfInBounds_toArray, List.set_cons_zero, List.set_cons_succ]
      refine at_takeD (i := 3) (m' := 15) (d := some 69) (v := .int .i64 (i : Int)) cn11reg rfl (by decide) rfl rfl (y_moveG (wanted_free rfl) rfl rfl) hbd ?_
      simp only [Act.put, List.setIfInBounds_toArray, List.set_cons_zero, List.set_cons_succ]
      refine at_takeD (i := 4) (m' := 31) (d := some 70) (v := .slice (some ⟨sb, ro, none⟩) R rc) cn11reg rfl (by decide) rfl rfl (y_moveG (wanted_free rfl) rfl rfl) hbd ?_
      simp only [Act.put, List.setIfInBounds_toArray, List.set_cons_zero, List.set_cons_succ]
      refine at_takeD (i := 5) (m' := 63) (d := some 71) (v := .int .i64 (i : Int)) cn11reg rfl (by decide) rfl rfl (y_moveG (wanted_free rfl) rfl rfl) hbd ?_
      simp only [Act.put, List.setIfInBounds_toArray, List.set_cons_zero, List.set_cons_succ]
      refine at_takeD (i := 6) (m' := 127) (d := some 72) (v := .int .i64 (F : Int)) cn11reg rfl (by decide) rfl rfl (y_mulI (wanted_free rfl) rfl rfl rfl Tryz.underlying3 u_F) hbd ?_
      simp only [Act.put, List.setIfInBounds_toArray, List.set_cons_zero, List.set_cons_succ]
      refine at_takeD (i := 7) (m' := 255) (d := some 73) (v := .int .i64 (i : Int)) cn11reg rfl (by decide) rfl rfl (y_moveG (wanted_free rfl) rfl rfl) hbd ?_
      simp only [Act.put, List.setIfInBounds_toArray, List.set_cons_zero, List.set_cons_succ]
      refine at_takeD (i := 8) (m' := 511) (d := some 74) (v := .int .i64 (I : Int)) cn11reg rfl (by decide) rfl rfl (y_addI (wanted_free rfl) rfl rfl rfl Tryz.underlying3 u_I) hbd ?_
      simp only [Act.put, List.setIfInBounds_toArray, List.set_cons_zero, List.set_cons_succ]
      refine at_takeD (i := 9) (m' := 1023) (d := some 75) (v := .int .i64 (G : Int)) cn11reg rfl (by decide) rfl rfl (y_mulI (wanted_free rfl) rfl rfl rfl Tryz.underlying3 u_G) hbd ?_
      simp only [Act.put, List.setIfInBounds_toArray, List.set_cons_zero, List.set_cons_succ]
      refine at_takeD (i := 10) (m' := 2047) (d := some 76) (v := .slice (some ⟨sb, po, none⟩) 32 pc) cn11reg rfl (by decide) rfl rfl (y_midC (wanted_free rfl) rfl rfl rfl rfl hcutw) hbd ?_
      simp only [Act.put, List.setIfInBounds_toArray, List.set_cons_zero, List.set_cons_succ]
      refine at_takeD (i := 11) (m' := 4095) (d := some 77) (v := .int .u32 (D : Int)) cn11reg rfl (by decide) rfl rfl (y_moveG (wanted_free rfl) rfl rfl) hbd ?_
      simp only [Act.put, List.setIfInBounds_toArray, List.set_cons_zero, List.set_cons_succ]
      refine at_takeD (i := 12) (m' := 8191) (d := some 78) (v := .pointer (some ⟨X, 0, none⟩)) cn11reg rfl (by decide) rfl rfl (y_fieldG (wanted_free rfl) rfl rfl (fun w => by simp [go_sem])) hbd ?_
      simp only [Act.put, List.setIfInBounds_toArray, List.set_cons_zero, List.set_cons_succ]
      refine at_takeD (i := 13) (m' := 16383) (d := some 79) (v := .agg #[.int .i64 (k : Int), .int .i64 (P : Int), .int .i64 (s : Int), .int .u64 (c : Int)]) cn11reg rfl (by decide) rfl rfl (y_rowG (cs := [.int .i64 (k : Int), .int .i64 (P : Int), .int .i64 (s : Int), .int .u64 (c : Int)]) (wanted_free rfl) rfl rfl Tryz.underlying124 rfl (by kernel_rfl) (fun _ h => (bxr.but h hXH).range4)) hbd ?_
      simp only [Act.put, List.setIfInBounds_toArray, List.set_cons_zero, List.set_cons_succ]
      refine at_one (i := 14) (m' := 32767) cn11reg (by decide) rfl ?_
      refine p_callG (args := #[.agg #[.int .i64 (k : Int), .int .i64 (P : Int), .int .i64 (s : Int), .int .u64 (c : Int)]]) (d := some 80) rfl (wanted_free rfl) rfl (by simp only [List.map_toArray, List.map_cons, List.map_nil]; rfl) rfl Tryz.call97 ((htop wr.drew).mono ?_)
      rintro e y15 ⟨rfl, g15⟩
      replace kb := keep_trans kb g15
      have hb15 := but_keep hbd g15
      refine ⟨_, rfl, hb15, ?_⟩
      simp only [Act.put, List.setIfInBounds_toArray, List.set_cons_zero, List.set_cons_succ]
      refine at_one (i := 15) (m' := 65535) cn11reg (by decide) rfl ?_
      refine p_callG (args := #[.agg #[.int .i64 (k : Int), .int .i64 (P : Int), .int .i64 (s : Int), .int .u64 (c : Int), .slice aa 20 ac], .int .i64 (i : Int), .slice (some ⟨sb, po, none⟩) 32 pc, .int .u32 (D : Int), .int .u32 (M : Int)]) (d := some 81) rfl (wanted_free rfl) rfl (by simp only [List.map_toArray, List.map_cons, List.map_nil]; rfl) rfl Tryz.call96 ((hal y15 _ (hTr.below kb) (har.below kb) (rPr.below kb) tP).mono ?_)
      rintro e y16 ⟨xv, rfl, rx, tx, nx, g16⟩
      have kc := kb
      replace kb := keep_trans kb g16
      obtain ⟨xa, xc, rfl, _⟩ := rx.opens hCi
      have hb16 := but_keep hb15 g16
      refine ⟨_, rfl, hb16, ?_⟩
      simp only [Act.put, List.setIfInBounds_toArray, List.set_cons_zero, List.set_cons_succ]
      refine at_takeD (i := 16) (m' := 131071) (d := some 82) (v := .pointer (some ⟨H, i, none⟩)) cn11reg rfl (by decide) rfl rfl (y_ix0 (wanted_free rfl) rfl rfl rfl Tryz.underlying48 (by kernel_rfl) hiP) hb16 ?_
      simp only [Act.put, List.setIfInBounds_toArray, List.set_cons_zero, List.set_cons_succ]
      refine at_one (i := 17) (m' := 262143) cn11reg (by decide) rfl ?_
      refine p_store_plain (P := Tryz.prog) rfl rfl rfl rfl rfl rfl Tryz.underlying23 rfl (by kernel_rfl) ((hUr.below kb).any hiP) ((hUr.below kb).frozen i) ?_
      have hb18 := hb16.setCell i (.slice xa 32 xc)
      refine ⟨hb18, ?_⟩
      refine at_done cn11reg (by decide) ?_
      go_wp2
      obtain ⟨hI, hlt, hbr⟩ := HK.out
      have hn : ∀ q, (Value.slice xa 32 xc).ownBlock = some q → q ≠ H := fun q hq => by
        have hl := hUr.lt
        rcases nx with nx | nx
        · have h1 := nx q hq
          have h2 := kc.size
          omega
        · rw [nx] at hq
          have : sb = q := by simpa [Value.ownBlock] using hq
          omega
      have hnext := PuL.next hUr hbr kb hlt rx tx hn
      rw [← hI] at hnext
      exact ⟨hnext, by simp [intOf]; omega⟩
    · obtain rfl : i = P := by omega
      have hge : ¬ ((i : Int) < (i : Int)) := by omega
      have rp := hUr.rows (by omega)
      have hsm1 := hskH.out wr (.slice aa 20 ac) _ ((List.range i).map f) hTr har ta rp HF.out.1 HF.out.2
      have HK := hide hbw
      clear hPl hfi hfC hT hb2 hbw hP1 hbr oar hi' hlt haw bx2 hwH ht tt hdb hdl hec rp
      go_wp2_with (first
        | (go_at_call 95; refine hsm1.mono ?_; rintro e w9 ⟨v9, rfl, o9, g9⟩)
        | (refine wpList_load_row rfl 126 _ (by rfl) X (by rfl) _ _ _ _ bxr.here Tryz.underlying126 rfl (by kernel_rfl) ?_)
        | fail)
      go_ret2
      exact ⟨_, rfl, o9.mono HK.out.size, keep_trans HK.out g9⟩
end Go.Proofs.YtogiballdmgcpaaGreatDoor
