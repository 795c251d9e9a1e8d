/- Leaves that sign once, the program's own: sum. -/
import Derived.Test.YtogiballdmgcpaaGreatDoorHkM
import Derived.Test.YtogiballdmgcpaaGreatDoorHEnd
import Derived.Test.YtogiballdmgcpaaGreatDoorHTak32
import Derived.Test.YtogiballdmgcpaaGreatDoorLsA
import Derived.Test.YtogiballdmgcpaaGreatDoorLtV
import Derived.Test.YtogiballdmgcpaaGreatDoorLmM
import Derived.Test.YtogiballdmgcpaaGreatDoorHKi2
import Derived.Test.YtogiballdmgcpaaGreatDoorPlan3
namespace Go.Proofs.YtogiballdmgcpaaGreatDoor
open Go.RowKit
set_option linter.unusedVariables false
set_option linter.unusedSimpArgs false

/-- an operation of a plan, by its own law -/
theorem p_wpG {P : Program} {ops : Array Oper} {Q : Exit → Act → World → Prop} {K : Act → World → Prop} {i : Nat} {o : Oper} {a : Act} {w : World} (hi : ops[i]? = some o) (hw : Region.wanted o (yielded ops a.tmps) = true) (h : o.wp P a w K Q) : wpOp P ops Q i K a w := by
  unfold wpOp
  simp only [hi]
  rw [if_pos hw]
  left
  exact h
theorem p_appT {P : Program} {ops : Array Oper} {Q : Exit → Act → World → Prop} {K : Act → World → Prop} {i_ : Nat} {o : Oper} {a : Act} {w : World} {d : Option Nat} (hi : ops[i_]? = some o) (hw : Region.wanted o (yielded ops a.tmps) = true) (hd : o.dst = d) (s x : Operand) (t tx e' : TypeId)
    (ho : o.op = .call { callee := .builtin .append, args := #[s, x], argTypes := #[t, tx] }) (htx : P.underlying tx = some (.slice e'))
    (base : Nat) (e : TypeId) (i : TypeInfo) (z : Value) (bytes : Nat) (ht : P.underlying t = some (.slice e)) (hi0 : P.info? e = some i) (hz : i.zero = some z)
    (hsize : i.size = 1) (hby : i.bytes = bytes) (hzs : z.cells.size = 1)
    (v : Value) (n : Nat) (xs : List Value) (hs : a.eval s = v) (hown : w.ownsRow base e 1 v n xs)
    (ad : Option Addr) (m c : Nat) (news : List Value) (hx : a.eval x = .slice ad m c) (hl : news.length = m)
    (hnews : 0 < m → ∃ b off, ad = some ⟨b, off, none⟩ ∧ ∀ j u, news[j]? = some u → w.cell? ⟨b, off + j, none⟩ = some u) (h1 : ∀ u ∈ news, u.oneCell' = true)
    (h63 : n + m ≤ maxLen) (hbytes : (n + m) * bytes ≤ 140737488355328) (hbase : base ≤ w.heap.size)
    (h : ∀ v' w', w'.ownsRow base e 1 v' (n + m) (xs ++ news) → w.grownBy w' v.ownBlock → K (a.put d v') w') : wpOp P ops Q i_ K a w :=
  p_wpG hi hw (wp_append_rows w s x t tx e' ho htx base e i z bytes ht hi0 hz hsize hby hzs v n xs hs hown ad m c news hx hl hnews h1 h63 hbytes hbase fun v' w' k1 k2 => by rw [hd]; exact h v' w' k1 k2)
theorem row_grownN {w0 w w' : World} {q : Nat} {u : Value} {l : List Nat} (h : Row .u8 256 w0 u l) (hb : Below w0.heap.size w0 w) (hg : w.grownBy w' (some q)) (hq : w0.heap.size ≤ q) : Row .u8 256 w' u l := by
  obtain ⟨a, cap, rfl, h1, h2, h3, h4⟩ := h
  refine ⟨a, cap, rfl, h1, h2, fun hl => ?_, h4⟩
  obtain ⟨b, off, rfl, hc⟩ := h3 hl
  refine ⟨b, off, rfl, fun i hi => ?_⟩
  have hlt := World.block_lt_of_cell? w0 _ (hc i hi)
  refine hg.cell ((hb.cell (p := ⟨b, off + i, none⟩) hlt).trans (hc i hi)) ?_
  show some b ≠ some q
  intro e
  have : b = q := Option.some.inj e
  have : b < w0.heap.size := hlt
  omega
theorem texts_grownN {w0 w w' : World} {q : Nat} {us : List Value} {ls : List (List Nat)} (h : Texts w0 us ls) (hb : Below w0.heap.size w0 w) (hg : w.grownBy w' (some q)) (hq : w0.heap.size ≤ q) : Texts w' us ls :=
  ⟨h.1, fun i hi => by obtain ⟨u, k1, k2, k3⟩ := h.2 i hi; exact ⟨u, k1, row_grownN k2 hb hg hq, k3⟩⟩
theorem lf_range (w : World) (a b c d e : Value) (t : TypeId) : (w.alloc (.cells #[a, b, c, d, e] t)).rangeAt w.heap.size 0 [a, b, c, d, e] := fun j v hv => by
  rw [World.cell?_alloc_at _ _ _ _ rfl, Nat.zero_add]
  simpa using hv
def su1lt : List Lt := [(0, some 10, [3]), (1, some 11, [10]), (0, some 12, [1]), (4, some 13, [12]), (10, some 14, [11, 13]), (0, some 15, [2]), (56, some 16, [14, 15]), (127, some 7, [16])]
theorem su1reg : Reg (opsA (cLA (cRA (Tryz.f95.body.getD .skip)))) su1lt := ⟨by kernel_rfl, by kernel_rfl⟩
set_option maxHeartbeats 4000000 in
set_option maxRecDepth 100000 in
theorem csum_any (k P s c num : Nat) (pre : List Nat) (more : List (List Nat)) (av mv : Value) (w : World) (hT : Roots w) (ha : Row .u8 256 w av pre) (ta : Tidy av) (hm : Rows2 w mv more) (hn : num < 65536) (hl : pre.length + more.flatten.length ≤ 50000) (hml : more.length ≤ 1000) :
    Calls Tryz.prog 95 #[.agg #[.int .i64 (k : Int), .int .i64 (P : Int), .int .i64 (s : Int), .int .u64 (c : Int), av], .int .u64 (num : Int), mv] w fun e w' => ∃ v, e = .returned v ∧ Own 5 .u8 256 w' w.heap.size v (shaL (pre ++ (be2 num ++ more.flatten))) ∧ Below w.heap.size w w' := by
  obtain ⟨aa, ac, rfl, _⟩ := ha.opens rfl
  obtain ⟨us, ma, mc, rfl, _, _, tus, mcell⟩ := hm.texts
  have h2 := fun y => cbe2 num y (by omega)
  have hj := fun y v (r : Rows2 y v ([pre, be2 num] ++ more)) => join_any v _ y r (by simp only [List.flatten_append, List.flatten_cons, List.flatten_nil, List.length_append, be2_len, List.length_nil]; omega)
  have hfl : ([pre, be2 num] ++ more).flatten = pre ++ (be2 num ++ more.flatten) := by simp
  rw [hfl] at hj
  have hfll : (pre ++ (be2 num ++ more.flatten)).length ≤ 100000 := by rw [List.length_append, List.length_append, be2_len]; omega
  have hsum := fun y v (r : Row .u8 256 y v (pre ++ (be2 num ++ more.flatten))) (t : Tidy v) (hTy : Roots y) => sum_1 v _ y hTy r t hfll
  rw [show endS (wide 1) (ini 1) (pre ++ (be2 num ++ more.flatten)) (pre ++ (be2 num ++ more.flatten)).length (outn 1) = shaL (pre ++ (be2 num ++ more.flatten)) from rfl] at hsum
  generalize shaL (pre ++ (be2 num ++ more.flatten)) = SH at *
  generalize pre ++ (be2 num ++ more.flatten) = FL at *
  obtain ⟨L, hL⟩ : ∃ L, more.length = L := ⟨_, rfl⟩
  obtain ⟨A, hA⟩ : ∃ A, pre.length = A := ⟨_, rfl⟩
  rw [hL] at mcell ⊢
  rw [hA] at ha ta ⊢
  obtain ⟨i0, hi0, hz0, hz1, hz2⟩ := info_text
  obtain ⟨W0, hW0⟩ : ∃ W0 : World, W0 = w.alloc (.cells #[.int .i64 (k : Int), .int .i64 (P : Int), .int .i64 (s : Int), .int .u64 (c : Int), .slice aa A ac] 126) := ⟨_, rfl⟩
  have hb0 : Below w.heap.size w W0 := by rw [hW0]; exact keep_alloc _ _
  have hbox : W0.rangeAt w.heap.size 0 [.int .i64 (k : Int), .int .i64 (P : Int), .int .i64 (s : Int), .int .u64 (c : Int), .slice aa A ac] := by rw [hW0]; exact lf_range _ _ _ _ _ _ _
  go_enter Tryz.func95, Tryz.ntmps95
  go_wp2
  rw [← hW0]
  have hbd : Below W0.heap.size W0 W0.drew := (Below.refl _ _).drew
  refine at_begin (ops := opsA (cLA (cRA (Tryz.f95.body.getD .skip)))) (n := 8) (fun y => Below W0.heap.size W0 y) (by kernel_rfl) (by kernel_rfl) ?_
  refine at_takeD (i := 0) (m' := 1) (d := some 10) (v := .pointer (some ⟨w.heap.size, 4, none⟩)) su1reg rfl (by decide) rfl rfl (y_fieldG (wanted_free rfl) rfl rfl (fun w => by simp [go_sem])) hbd ?_
  simp only [Act.put, List.setIfInBounds_toArray, List.set_cons_zero, List.set_cons_succ]
  refine at_takeD (i := 1) (m' := 3) (d := some 11) (v := .slice aa A ac) su1reg rfl (by decide) rfl rfl (y_plainG (wanted_free rfl) rfl rfl Tryz.underlying23 rfl (fun _ h => range_below hbox h 4 _ rfl)) hbd ?_
  simp only [Act.put, List.setIfInBounds_toArray, List.set_cons_zero, List.set_cons_succ]
  refine at_takeD (i := 2) (m' := 7) (d := some 12) (v := .int .u64 (num : Int)) su1reg rfl (by decide) rfl rfl (y_moveG (wanted_free rfl) rfl rfl) hbd ?_
  simp only [Act.put, List.setIfInBounds_toArray, List.set_cons_zero, List.set_cons_succ]
  refine at_takeD (i := 5) (m' := 39) (d := some 15) (v := .slice ma L mc) su1reg rfl (by decide) rfl rfl (y_moveG (wanted_free rfl) rfl rfl) hbd ?_
  simp only [Act.put, List.setIfInBounds_toArray, List.set_cons_zero, List.set_cons_succ]
  refine at_one (i := 3) (m' := 47) su1reg (by decide) rfl ?_
  refine p_callG (args := #[.int .u64 (num : Int), .int .i64 2]) (d := some 13) rfl (wanted_free rfl) rfl (by simp only [List.map_toArray, List.map_cons, List.map_nil]; rfl) rfl Tryz.call21 ((h2 W0.drew).mono ?_)
  rintro e y5 ⟨bv, rfl, ob, g5⟩
  obtain ⟨ba, bc, rfl, _⟩ := ob.row.opens (be2_len num)
  have hb5 := keep_trans hbd g5
  have yb0 := hb5
  refine ⟨_, rfl, hb5, ?_⟩
  simp only [Act.put, List.setIfInBounds_toArray, List.set_cons_zero, List.set_cons_succ]
  refine at_one (i := 4) (m' := 63) su1reg (by decide) rfl ?_
  refine p_build2G (d := some 14) rfl (wanted_free rfl) rfl rfl rfl rfl Tryz.underlying48 hi0 hz1 hz0 ?_
  have hb6 := keep_trans hb5 (keep_alloc y5 (.cells #[.slice aa A ac, .slice ba 2 bc] 23))
  refine ⟨hb6, ?_⟩
  simp only [Act.put, List.setIfInBounds_toArray, List.set_cons_zero, List.set_cons_succ]
  refine at_one (i := 6) (m' := 127) su1reg (by decide) rfl ?_
  have hown := World.ownsRow_lit (base := W0.heap.size) (e := 23) (size := 1) y5 #[.slice aa A ac, .slice ba 2 bc] 2 yb0.size (by decide) rfl
  refine p_appT (d := some 16) rfl (wanted_free rfl) rfl _ _ 48 48 23 rfl Tryz.underlying48 W0.heap.size 23 i0 (.slice none 0 0) 24 Tryz.underlying48 hi0 hz0 hz1 hz2 rfl _ 2 _ rfl hown ma L mc us rfl (by rw [tus.1, hL]) (fun h => by obtain ⟨b, off, e, hc⟩ := mcell h; exact ⟨b, off, e, fun j u hj => keep_cell (hc j u hj) (keep_trans hb0 hb6)⟩) tus.cells (by unfold maxLen; omega) (by omega) hb6.size ?_
  intro VX WX hoX hgX
  have hb7 : Below W0.heap.size W0 WX := below_append' hb6 hb6.size hown hgX
  refine ⟨hb7, ?_⟩
  simp only [Act.put, List.setIfInBounds_toArray, List.set_cons_zero, List.set_cons_succ]
  refine at_takeD (i := 7) (m' := 255) (d := some 7) (v := VX) su1reg rfl (by decide) rfl rfl (y_assignG (wanted_free rfl) rfl rfl) hb7 ?_
  simp only [Act.put, List.setIfInBounds_toArray, List.set_cons_zero, List.set_cons_succ]
  refine at_done su1reg (by decide) ?_
  have kw := keep_trans hb0 hb7
  have rr : Rows2 WX VX ([pre, be2 num] ++ more) := by
    refine Texts.rows2 ((texts_grownN (texts_cons ((ha.below hb0).below yb0) ta (texts_cons ob.row ob.tidy (Texts.nil _))) (keep_alloc _ _) hgX (Nat.le_refl _)).append (texts_grownN ((tus.below hb0).below yb0) (keep_alloc _ _) hgX (Nat.le_refl _))) (B := W0.heap.size) ?_
    have e2 : ([pre, be2 num] ++ more).length = 2 + L := by rw [List.length_append, hL]; rfl
    rw [e2]
    exact hoX
  have hj1 := hj _ _ rr
  go_wp2_with (first
    | (go_at_call 20; refine hj1.mono ?_; rintro e w8 ⟨v8, rfl, o8, g8⟩)
    | (go_at_call 107; refine (hsum _ _ o8.row o8.tidy (hT.below (keep_trans kw g8))).mono ?_; rintro e w9 ⟨v9, rfl, o9, g9⟩)
    | fail)
  go_ret
  exact ⟨_, rfl, o9.mono (keep_trans kw g8).size, keep_trans (keep_trans kw g8) g9⟩
end Go.Proofs.YtogiballdmgcpaaGreatDoor

/- Leaves that sign once, the program's own: drawn, along. -/
namespace Go.Proofs.YtogiballdmgcpaaGreatDoor
open Go.RowKit
set_option linter.unusedVariables false
set_option linter.unusedSimpArgs false

set_option maxHeartbeats 4000000 in
set_option maxRecDepth 100000 in
theorem cdrawn_any (k P s c num : Nat) (pre seed : List Nat) (av sv : Value) (w : World) (hT : Roots w) (ha : Row .u8 256 w av pre) (ta : Tidy av) (hs : Row .u8 256 w sv seed) (ts : Tidy sv) (hn : num < 65536) (hl : pre.length + seed.length ≤ 40000) :
    Calls Tryz.prog 109 #[.agg #[.int .i64 (k : Int), .int .i64 (P : Int), .int .i64 (s : Int), .int .u64 (c : Int), av], .int .u64 (num : Int), sv] w fun e w' => ∃ v, e = .returned v ∧ Own 5 .u8 256 w' w.heap.size v (lmX shaL pre num 255 seed) ∧ Below w.heap.size w w' := by
  obtain ⟨aa, ac, rfl, _⟩ := ha.opens rfl
  obtain ⟨sa, sc, rfl, _⟩ := hs.opens rfl
  have hH := fun y mv (hTy : Roots y) (ra : Row .u8 256 y (.slice aa pre.length ac) pre) (r : Rows2 y mv [[255], seed]) => csum_any k P s c num pre [[255], seed] _ mv y hTy ra ta r hn (by simp only [List.flatten_cons, List.flatten_nil, List.append_nil, List.length_append, List.length_singleton]; omega) (by simp)
  have hfl : [[255], seed].flatten = [255] ++ seed := by simp
  simp only [hfl] at hH
  unfold lmX
  generalize shaL (pre ++ (be2 num ++ ([255] ++ seed))) = SH at *
  obtain ⟨A, hA⟩ : ∃ A, pre.length = A := ⟨_, rfl⟩
  obtain ⟨S, hS⟩ : ∃ S, seed.length = S := ⟨_, rfl⟩
  rw [hA] at ha ta hH ⊢
  rw [hS] at hs ts ⊢
  have k1 := keep_alloc w (.cells #[.int .i64 (k : Int), .int .i64 (P : Int), .int .i64 (s : Int), .int .u64 (c : Int), .slice aa A ac] 126)
  have k2 := keep_trans k1 (keep_alloc _ (.cells #[.int .u8 255] 5))
  have k3 := keep_trans k2 (keep_alloc _ (.cells #[.slice (some ⟨w.heap.size + 1, 0, none⟩) 1 1, .slice sa S sc] 23))
  have hx := one_byte (w.alloc (.cells #[.int .i64 (k : Int), .int .i64 (P : Int), .int .i64 (s : Int), .int .u64 (c : Int), .slice aa A ac] 126)) 255 (by decide)
  rw [World.size_alloc] at hx
  have hr := rows_litL (B := w.heap.size + 1 + 1) (k := 2) (texts_cons hx.1 hx.2 (texts_cons (hs.below k2) ts (Texts.nil _))) (by simp) rfl (by decide)
  have hT1 := hH _ _ (hT.below k3) (ha.below k3) hr
  clear hH hx hr
  go_enter Tryz.func109, Tryz.ntmps109
  go_wp2_with (first
    | (go_at_call 95; refine hT1.mono ?_; rintro e w1 ⟨v1, rfl, o1, g1⟩)
    | fail)
  go_ret
  exact ⟨_, rfl, o1.mono k3.size, keep_trans k3 g1⟩
/-- where the steps stand -/
def AlL (W0 : World) (HH : List Nat → List Nat) (pre : List Nat) (i F N : Nat) (y : List Nat) (yv vy vj : Value) (wr : World) : Prop := ∃ k : Nat, k ≤ N ∧ vj = .int .u32 (k : Int) ∧ Row .u8 256 wr vy (chN HH pre i F k y) ∧ Tidy vy ∧ (New W0.heap.size vy ∨ vy = yv) ∧ Below W0.heap.size W0 wr
theorem conv_i64u64 (n : Nat) (h : n < 18446744073709551616) (w : World) : (convert 3 26 (.int .i64 (n : Int))).run Tryz.prog w = .ok (.int .u64 (n : Int)) w := by
  have : IntKind.u64.wrap (n : Int) = (n : Int) := by rw [IntKind.wrap_u64]; omega
  simp [go_sem, convert, this]
theorem conv_u32u64 (n : Nat) (h : n < 4294967296) (w : World) : (convert 52 26 (.int .u32 (n : Int))).run Tryz.prog w = .ok (.int .u64 (n : Int)) w := by
  have : IntKind.u64.wrap (n : Int) = (n : Int) := by rw [IntKind.wrap_u64]; omega
  simp [go_sem, convert, this]
theorem y_addU {ops : Array Oper} {S : World → Prop} {o : Oper} {a : Act} {x y : Operand} {t t' : TypeId} {i j q : Int} (hw : Region.wanted o (yielded ops a.tmps) = true) (ho : o.op = .binOp .add t x y t') (hx : a.eval x = .int .u32 i) (hy : a.eval y = .int .u32 j) (hu : Tryz.prog.underlying t = some (.int .u32)) (hb : IntKind.u32.wrap (i + j) = q) : YieldsIf Tryz.prog ops S o (.int .u32 q) a := by
  refine y_ofG hw fun w _ => ?_
  unfold execOp
  simp only [ho, hx, hy]
  simp [go_sem, hu, hb]
def al4lt : List Lt := [(0, some 18, [5]), (0, some 19, [1]), (2, some 20, [19]), (0, some 21, [3]), (0, some 22, [11]), (24, some 23, [21, 22]), (32, some 24, [23]), (64, some 25, [24]), (0, some 26, [2]), (384, some 27, [25, 26]), (645, some 28, [18, 20, 27]), (2047, some 2, [28])]
theorem al4reg : Reg (opsA (cRA (cBA (cLA (cRA (cRA (cLpA (cBA (cRA (cLA (cRA (Tryz.f96.body.getD .skip)))))))))))) al4lt := ⟨by kernel_rfl, by kernel_rfl⟩
set_option maxHeartbeats 4000000 in
set_option maxRecDepth 100000 in
theorem calong_any (k P s c i F N : Nat) (pre y : List Nat) (av yv : Value) (w : World) (hT : Roots w) (ha : Row .u8 256 w av pre) (ta : Tidy av) (hy : Row .u8 256 w yv y) (ty : Tidy yv) (hi : i < 65536) (hF : F + N ≤ 256) (hy32 : y.length = 32) (hl : pre.length ≤ 40000) :
    Calls Tryz.prog 96 #[.agg #[.int .i64 (k : Int), .int .i64 (P : Int), .int .i64 (s : Int), .int .u64 (c : Int), av], .int .i64 (i : Int), yv, .int .u32 (F : Int), .int .u32 ((F + N : Nat) : Int)] w fun e w' => ∃ v, e = .returned v ∧ Row .u8 256 w' v (chN shaL pre i F N y) ∧ Tidy v ∧ (New w.heap.size v ∨ v = yv) ∧ Below w.heap.size w w' := by
  obtain ⟨aa, ac, rfl, _⟩ := ha.opens rfl
  have hH := fun (b : Nat) (z : List Nat) (hz : z.length = 32) y mv (hTy : Roots y) (ra : Row .u8 256 y (.slice aa pre.length ac) pre) (r : Rows2 y mv [[b], z]) => csum_any k P s c i pre [[b], z] _ mv y hTy ra ta r hi (by simp only [List.flatten_cons, List.flatten_nil, List.append_nil, List.length_append, List.length_singleton]; omega) (by simp)
  have hfl : ∀ (b : Nat) (z : List Nat), [[b], z].flatten = [b] ++ z := fun b z => by simp
  simp only [hfl] at hH
  have hlen : ∀ k, (chN shaL pre i F k y).length = 32 := chN_len shaL_len i F y hy32
  have h1 := fun (b : Nat) (hb : b < 256) y => cbe1 b y hb
  generalize shaL = HH at *
  obtain ⟨A, hA⟩ : ∃ A, pre.length = A := ⟨_, rfl⟩
  rw [hA] at ha ta hH ⊢
  obtain ⟨i0, hi0, hz0, hz1, hz2⟩ := info_text
  obtain ⟨W0, hW0⟩ : ∃ W0 : World, W0 = w.alloc (.cells #[.int .i64 (k : Int), .int .i64 (P : Int), .int .i64 (s : Int), .int .u64 (c : Int), .slice aa A ac] 126) := ⟨_, rfl⟩
  have hb0 : Below w.heap.size w W0 := by rw [hW0]; exact keep_alloc _ _
  have hbox : W0.rangeAt w.heap.size 0 [.int .i64 (k : Int), .int .i64 (P : Int), .int .i64 (s : Int), .int .u64 (c : Int), .slice aa A ac] := by rw [hW0]; exact lf_range _ _ _ _ _ _ _
  obtain ⟨T, hTT⟩ : ∃ T : Nat, T = F + N := ⟨_, rfl⟩
  rw [← hTT]
  have e_N : (T : Int) - (F : Int) = (N : Int) := by omega
  have s_N : IntKind.u32.wrap (N : Int) = (N : Int) := by rw [IntKind.wrap_u32]; omega
  have H0 := hide (show AlL W0 HH pre i F N y yv yv (.int .u32 0) W0 from ⟨0, Nat.zero_le _, rfl, hy.below hb0, ty, .inr rfl, Below.refl _ _⟩)
  have HI := hide (And.intro (ha.below hb0) (And.intro ta (And.intro hlen (And.intro hF (And.intro (hT.below hb0) (And.intro hb0 hi))))))
  clear ha ta hlen hF hT hfl hy ty hb0 hTT hi hA hl hy32
  go_enter Tryz.func96, Tryz.ntmps96
  go_wp2
  rw [← hW0]
  clear hW0
  go_loopw [2, 15] (fun vy vj wr => AlL W0 HH pre i F N y yv vy vj wr) (fun _ vj _ => N - (intOf vj).toNat)
  case atStart => exact H0.out
  case round =>
    obtain ⟨j, hj, rfl, rY, tY, nY, hbr⟩ := hrel
    obtain ⟨ha, ta, hlen, hF, hT, hb0, hi⟩ := HI.out
    clear H0
    rename World => wr
    by_cases hlt : j < N
    · have hjN : (j : Int) < (N : Int) := by omega
      obtain ⟨b, hbj⟩ : ∃ b : Nat, b = F + j := ⟨_, rfl⟩
      have hb8 : b < 256 := by omega
      have u_b : IntKind.u32.wrap ((F : Int) + (j : Int)) = (b : Int) := by rw [IntKind.wrap_u32]; omega
      obtain ⟨Q, hQ⟩ : ∃ x : Nat, x = j + 1 := ⟨_, rfl⟩
      have e_Q : (j : Int) + 1 = (Q : Int) := by omega
      have s_Q : IntKind.u32.wrap (Q : Int) = (Q : Int) := by rw [IntKind.wrap_u32]; omega
      have hch : HH (pre ++ (be2 i ++ ([b] ++ chN HH pre i F j y))) = chN HH pre i F (j + 1) y := by rw [hbj]; rfl
      have hHk := fun yy mv hTy ra r => hH b (chN HH pre i F j y) (hlen j) yy mv hTy ra r
      rw [hch] at hHk
      obtain ⟨ya, yc, rfl, _⟩ := rY.opens (hlen j)
      have hbox' := range_below hbox hbr
      have hbd : Below wr.heap.size wr wr.drew := (Below.refl _ _).drew
      have HK := hide (And.intro hbj (And.intro hQ (And.intro hlt (And.intro hb8 (And.intro hlen hF)))))
      have h1b := h1 b hb8
      have har := ha.below hbr
      have hTr := hT.below hbr
      clear hbj hQ hlt hch hlen hF hH h1
      go_wp2
      refine at_begin (ops := opsA (cRA (cBA (cLA (cRA (cRA (cLpA (cBA (cRA (cLA (cRA (Tryz.f96.body.getD .skip)))))))))))) (n := 12) (fun y => Below wr.heap.size wr y) (by kernel_rfl) (by kernel_rfl) ?_
      refine at_takeD (i := 0) (m' := 1) (d := some 18) (v := .agg #[.int .i64 (k : Int), .int .i64 (P : Int), .int .i64 (s : Int), .int .u64 (c : Int), .slice aa A ac]) al4reg rfl (by decide) rfl rfl (y_rowG (cs := [.int .i64 (k : Int), .int .i64 (P : Int), .int .i64 (s : Int), .int .u64 (c : Int), .slice aa A ac]) (wanted_free rfl) rfl rfl Tryz.underlying126 rfl (by kernel_rfl) (fun _ h => range_below hbox' h)) hbd ?_
      simp only [Act.put, List.setIfInBounds_toArray, List.set_cons_zero, List.set_cons_succ]
      refine at_takeD (i := 1) (m' := 3) (d := some 19) (v := .int .i64 (i : Int)) al4reg rfl (by decide) rfl rfl (y_moveG (wanted_free rfl) rfl rfl) hbd ?_
      simp only [Act.put, List.setIfInBounds_toArray, List.set_cons_zero, List.set_cons_succ]
      refine at_takeD (i := 2) (m' := 7) (d := some 20) (v := .int .u64 (i : Int)) al4reg rfl (by decide) rfl rfl (y_convI (wanted_free rfl) rfl rfl (conv_i64u64 i (by omega))) hbd ?_
      simp only [Act.put, List.setIfInBounds_toArray, List.set_cons_zero, List.set_cons_succ]
      refine at_takeD (i := 3) (m' := 15) (d := some 21) (v := .int .u32 (F : Int)) al4reg rfl (by decide) rfl rfl (y_moveG (wanted_free rfl) rfl rfl) hbd ?_
      simp only [Act.put, List.setIfInBounds_toArray, List.set_cons_zero, List.set_cons_succ]
      refine at_takeD (i := 4) (m' := 31) (d := some 22) (v := .int .u32 (j : Int)) al4reg rfl (by decide) rfl rfl (y_moveG (wanted_free rfl) rfl rfl) hbd ?_
      simp only [Act.put, List.setIfInBounds_toArray, List.set_cons_zero, List.set_cons_succ]
      refine at_takeD (i := 5) (m' := 63) (d := some 23) (v := .int .u32 (b : Int)) al4reg rfl (by decide) rfl rfl (y_addU (wanted_free rfl) rfl rfl rfl Tryz.underlying52 u_b) hbd ?_
      simp only [Act.put, List.setIfInBounds_toArray, List.set_cons_zero, List.set_cons_succ]
      refine at_takeD (i := 6) (m' := 127) (d := some 24) (v := .int .u64 (b : Int)) al4reg rfl (by decide) rfl rfl (y_convI (wanted_free rfl) rfl rfl (conv_u32u64 b (by omega))) hbd ?_
      simp only [Act.put, List.setIfInBounds_toArray, List.set_cons_zero, List.set_cons_succ]
      refine at_takeD (i := 8) (m' := 383) (d := some 26) (v := .slice ya 32 yc) al4reg rfl (by decide) rfl rfl (y_moveG (wanted_free rfl) rfl rfl) hbd ?_
      simp only [Act.put, List.setIfInBounds_toArray, List.set_cons_zero, List.set_cons_succ]
      refine at_one (i := 7) (m' := 511) al4reg (by decide) rfl ?_
      refine p_callG (args := #[.int .u64 (b : Int), .int .i64 1]) (d := some 25) rfl (wanted_free rfl) rfl (by simp only [List.map_toArray, List.map_cons, List.map_nil]; rfl) rfl Tryz.call21 ((h1b wr.drew).mono ?_)
      rintro e y9 ⟨bv, rfl, ob, g9⟩
      obtain ⟨ba, bc, rfl, _⟩ := ob.row.opens (N := 1) rfl
      have hb9 := keep_trans hbd g9
      have yb0 := hb9
      refine ⟨_, rfl, hb9, ?_⟩
      simp only [Act.put, List.setIfInBounds_toArray, List.set_cons_zero, List.set_cons_succ]
      refine at_one (i := 9) (m' := 1023) al4reg (by decide) rfl ?_
      refine p_build2G (d := some 27) rfl (wanted_free rfl) rfl rfl rfl rfl Tryz.underlying48 hi0 hz1 hz0 ?_
      have hb10 := keep_trans hb9 (keep_alloc y9 (.cells #[.slice ba 1 bc, .slice ya 32 yc] 23))
      have rr := rows_litL (B := y9.heap.size) (k := 2) (texts_cons ob.row ob.tidy (texts_cons (rY.below yb0) tY (Texts.nil _))) rfl rfl (by decide)
      refine ⟨hb10, ?_⟩
      simp only [Act.put, List.setIfInBounds_toArray, List.set_cons_zero, List.set_cons_succ]
      refine at_one (i := 10) (m' := 2047) al4reg (by decide) rfl ?_
      refine p_callG (args := #[.agg #[.int .i64 (k : Int), .int .i64 (P : Int), .int .i64 (s : Int), .int .u64 (c : Int), .slice aa A ac], .int .u64 (i : Int), .slice (some ⟨y9.heap.size, 0, none⟩) 2 2]) (d := some 28) rfl (wanted_free rfl) rfl (by simp only [List.map_toArray, List.map_cons, List.map_nil]; rfl) rfl Tryz.call95 ((hHk (y9.alloc (.cells #[.slice ba 1 bc, .slice ya 32 yc] 23)) _ (hTr.below hb10) (har.below hb10) rr).mono ?_)
      rintro e y11 ⟨xv, rfl, ox, g11⟩
      have ybs := (hb10).size
      have hb11 := keep_trans hb10 g11
      refine ⟨_, rfl, hb11, ?_⟩
      simp only [Act.put, List.setIfInBounds_toArray, List.set_cons_zero, List.set_cons_succ]
      refine at_takeD (i := 11) (m' := 4095) (d := some 2) (v := xv) al4reg rfl (by decide) rfl rfl (y_assignG (wanted_free rfl) rfl rfl) hb11 ?_
      simp only [Act.put, List.setIfInBounds_toArray, List.set_cons_zero, List.set_cons_succ]
      refine at_done al4reg (by decide) ?_
      go_wp2
      obtain ⟨hbj, hQ, hlt, hb8, hlen, hF⟩ := HK.out
      exact ⟨⟨j + 1, by omega, by rw [hQ], ox.row, ox.tidy, .inl (ox.new.mono (Nat.le_trans hbr.size ybs)), hbr.trans (hb11.mono hbr.size)⟩, by simp [intOf]; omega⟩
    · obtain rfl : j = N := by omega
      have hge : ¬ ((j : Int) < (j : Int)) := by omega
      obtain ⟨ya, yc, rfl, _⟩ := rY.opens (hlen j)
      have HK := hide (And.intro hbr (And.intro hb0 rY))
      clear hbr hb0 hlen hF ha hH rY
      go_wp2
      go_ret
      exact ⟨_, rfl, HK.out.2.2, tY, nY.imp (fun h => h.mono HK.out.2.1.size) id, keep_trans HK.out.2.1 HK.out.1⟩
end Go.Proofs.YtogiballdmgcpaaGreatDoor

/- Trees of leaves that sign once, the program's own: what all of it leans on. -/
namespace Go.Proofs.YtogiballdmgcpaaGreatDoor
open Go.RowKit Go.Shelf
set_option linter.unusedVariables false
set_option linter.unusedSimpArgs false

theorem below_setRow {w y : World} {B : Nat} {vs : Array Value} (h : Below w.heap.size w y) (hB : w.heap.size ≤ B) : Below w.heap.size w (y.setRow B vs) := h.trans (((But.refl B y).setRow vs).below hB h.size)
theorem Bx2T.row {W : World} {B : Nat} {a b a' b' : Value} (h : Bx2T W B a b) : Bx2T (W.setRow B #[a', b']) B a' b' := ⟨setRow_heap W B _ _ _ _ h.here⟩
theorem Bx2T.but {W W' : World} {B g : Nat} {a b : Value} (h : Bx2T W B a b) (hb : But g W W') (hne : B ≠ g) : Bx2T W' B a b := ⟨(hb.block _ h.lt hne).trans h.here⟩
theorem Bx2T.ret {W : World} {B : Nat} {a b : Value} (h : Bx2T W B a b) {fn : Func} {p q : Tmp} (hr : fn.results = #[.cell p 45, .tmp q]) (tmps : Array Value) {v : Value} (hp : tmps.getD p undef = .pointer (some ⟨B, 0, none⟩)) (hv : tmps.getD q undef = v) :
    (results fn tmps).run Tryz.prog W = .ok (.tuple #[.agg #[a, b], v]) W := by
  subst hv
  have hp' : tmps[p]?.getD undef = .pointer (some ⟨B, 0, none⟩) := by simpa using hp
  simp [results, hr, hp', asAddr, run_loadVar_row W B 45 45 #[a, b] (0, 0) _ h.here Tryz.underlying45 rfl (by kernel_rfl)]
theorem Own.lift {e : TypeId} {k : IntKind} {m B : Nat} {w w' : World} {v : Value} {l : List Nat} (h : Own e k m w B v l) (hb : Below w.heap.size w w') : Own e k m w' B v l := ⟨own_belowA h.1 hb, h.2⟩
theorem tidy_some {v : Value} (h : ∃ x n c, v = .slice (some x) n c) : Tidy v := by
  obtain ⟨x, n, c, rfl⟩ := h
  exact fun n c e => by cases e
theorem below_setCell {w y : World} {B j : Nat} {v : Value} (h : Below w.heap.size w y) (hB : w.heap.size ≤ B) : Below w.heap.size w (y.setCell ⟨B, j, none⟩ v) := h.trans (((But.refl B y).setCell j v).below hB h.size)
theorem cells_keptL {A B : World} {row : Option Nat} (hg : A.grownBy B row) (hr : ∀ r, row = some r → ∃ o : Obj, A.heap[r]? = some o ∧ o.isCells = false) {k : Nat} {cs : Array Value} {t : TypeId} {fz : Nat × Nat} (h : A.heap[k]? = some (.cells cs t fz)) : B.heap[k]? = some (.cells cs t fz) := by
  refine (hg.block k (Array.getElem?_eq_some_iff.1 h).1 fun e => ?_).trans h
  obtain ⟨o, ho, hc⟩ := hr k e.symm
  rw [h] at ho
  cases ho
  cases hc
theorem row_ownL {A B : World} {row : Option Nat} {v : Value} {l : List Nat} (h : Row .u8 256 A v l) (hg : A.grownBy B row) (hr : ∀ r, row = some r → ∃ o : Obj, A.heap[r]? = some o ∧ o.isCells = false) : Row .u8 256 B v l := by
  obtain ⟨a, cap, he, h1, h2, h3, h4⟩ := h
  refine ⟨a, cap, he, h1, h2, fun hl => ?_, h4⟩
  obtain ⟨b, off, ha, hc⟩ := h3 hl
  refine ⟨b, off, ha, fun i hi => hg.cell (hc i hi) fun e => ?_⟩
  obtain ⟨o, ho, ho2⟩ := hr b e.symm
  have := hc i hi
  unfold World.cell? at this
  simp only [ho] at this
  cases o <;> simp_all [Obj.isCells]
theorem boxed_belowL {w w' : World} {B : Nat} {t : TypeId} {v : Value} (h : Boxed w B t v) (hb : Below w.heap.size w w') : Boxed w' B t v := (hb.block _ h.lt).trans h
theorem boxed_butL {w w' : World} {B g : Nat} {t : TypeId} {v : Value} (h : Boxed w B t v) (hb : But g w w') (hne : B ≠ g) : Boxed w' B t v := (hb.block _ h.lt hne).trans h
theorem kept_belowL {lo : Nat} {W W' : World} (hb : Below W.heap.size W W') : Kept lo W W' := ⟨hb.size, fun k _ h2 => hb.block k h2⟩
theorem kept_setL {lo q j : Nat} {W : World} (u : Value) (hq : q < lo) : Kept lo W (W.setCell ⟨q, j, none⟩ u) :=
  have hb := (But.refl q W).setCell j u
  ⟨hb.size, fun k h1 h2 => hb.block k h2 (by omega)⟩
theorem row_tidyX {k : IntKind} {m : Nat} {w : World} {v : Value} {l : List Nat} (h : Row k m w v l) (hl : 0 < l.length) : Tidy v := by
  obtain ⟨a, c, rfl, _, _, h3, _⟩ := h
  obtain ⟨b, off, rfl, _⟩ := h3 hl
  exact fun n c he => by simp at he
end Go.Proofs.YtogiballdmgcpaaGreatDoor
