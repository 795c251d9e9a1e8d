/- Leaves that sign once, the program's own: drawn, along. -/
import Derived.Test.YtefndnbaifiboaaGreatDoorLsB
import Derived.Test.YtefndnbaifiboaaGreatDoorPlan3
import Derived.Test.YtefndnbaifiboaaGreatDoorLcD
namespace Go.Proofs.YtefndnbaifiboaaGreatDoor
open Go.RowKit
set_option linter.unusedVariables false
set_option linter.unusedSimpArgs false

set_option maxHeartbeats 4000000 in
set_option maxRecDepth 100000 in
theorem cdrawn_any (k P s c num : Nat) (pre seed : List Nat) (av sv : Value) (w : World) (hT : Roots w) (ha : Row .u8 256 w av pre) (ta : Tidy av) (hs : Row .u8 256 w sv seed) (ts : Tidy sv) (hn : num < 65536) (hl : pre.length + seed.length ≤ 40000) :
    Calls Tryz.prog 61 #[.agg #[.int .i64 (k : Int), .int .i64 (P : Int), .int .i64 (s : Int), .int .u64 (c : Int), av], .int .u64 (num : Int), sv] w fun e w' => ∃ v, e = .returned v ∧ Own 5 .u8 256 w' w.heap.size v (lmX shaL pre num 255 seed) ∧ Below w.heap.size w w' := by
  obtain ⟨aa, ac, rfl, _⟩ := ha.opens rfl
  obtain ⟨sa, sc, rfl, _⟩ := hs.opens rfl
  have hH := fun y mv (hTy : Roots y) (ra : Row .u8 256 y (.slice aa pre.length ac) pre) (r : Rows2 y mv [[255], seed]) => csum_any k P s c num pre [[255], seed] _ mv y hTy ra ta r hn (by simp only [List.flatten_cons, List.flatten_nil, List.append_nil, List.length_append, List.length_singleton]; omega) (by simp)
  have hfl : [[255], seed].flatten = [255] ++ seed := by simp
  simp only [hfl] at hH
  unfold lmX
  generalize shaL (pre ++ (be2 num ++ ([255] ++ seed))) = SH at *
  obtain ⟨A, hA⟩ : ∃ A, pre.length = A := ⟨_, rfl⟩
  obtain ⟨S, hS⟩ : ∃ S, seed.length = S := ⟨_, rfl⟩
  rw [hA] at ha ta hH ⊢
  rw [hS] at hs ts ⊢
  have k1 := keep_alloc w (.cells #[.int .i64 (k : Int), .int .i64 (P : Int), .int .i64 (s : Int), .int .u64 (c : Int), .slice aa A ac] 84)
  have k2 := keep_trans k1 (keep_alloc _ (.cells #[.int .u8 255] 5))
  have k3 := keep_trans k2 (keep_alloc _ (.cells #[.slice (some ⟨w.heap.size + 1, 0, none⟩) 1 1, .slice sa S sc] 24))
  have hx := one_byte (w.alloc (.cells #[.int .i64 (k : Int), .int .i64 (P : Int), .int .i64 (s : Int), .int .u64 (c : Int), .slice aa A ac] 84)) 255 (by decide)
  rw [World.size_alloc] at hx
  have hr := rows_litL (B := w.heap.size + 1 + 1) (k := 2) (texts_cons hx.1 hx.2 (texts_cons (hs.below k2) ts (Texts.nil _))) (by simp) rfl (by decide)
  have hT1 := hH _ _ (hT.below k3) (ha.below k3) hr
  clear hH hx hr
  go_enter Tryz.func61, Tryz.ntmps61
  go_wp2_with (first
    | (go_at_call 63; refine hT1.mono ?_; rintro e w1 ⟨v1, rfl, o1, g1⟩)
    | fail)
  go_ret
  exact ⟨_, rfl, o1.mono k3.size, keep_trans k3 g1⟩
/-- where the steps stand -/
def AlL (W0 : World) (HH : List Nat → List Nat) (pre : List Nat) (i F N : Nat) (y : List Nat) (yv vy vj : Value) (wr : World) : Prop := ∃ k : Nat, k ≤ N ∧ vj = .int .u32 (k : Int) ∧ Row .u8 256 wr vy (chN HH pre i F k y) ∧ Tidy vy ∧ (New W0.heap.size vy ∨ vy = yv) ∧ Below W0.heap.size W0 wr
theorem conv_i64u64 (n : Nat) (h : n < 18446744073709551616) (w : World) : (convert 3 61 (.int .i64 (n : Int))).run Tryz.prog w = .ok (.int .u64 (n : Int)) w := by
  have : IntKind.u64.wrap (n : Int) = (n : Int) := by rw [IntKind.wrap_u64]; omega
  simp [go_sem, convert, this]
theorem conv_u32u64 (n : Nat) (h : n < 4294967296) (w : World) : (convert 25 61 (.int .u32 (n : Int))).run Tryz.prog w = .ok (.int .u64 (n : Int)) w := by
  have : IntKind.u64.wrap (n : Int) = (n : Int) := by rw [IntKind.wrap_u64]; omega
  simp [go_sem, convert, this]
theorem y_addU {ops : Array Oper} {S : World → Prop} {o : Oper} {a : Act} {x y : Operand} {t t' : TypeId} {i j q : Int} (hw : Region.wanted o (yielded ops a.tmps) = true) (ho : o.op = .binOp .add t x y t') (hx : a.eval x = .int .u32 i) (hy : a.eval y = .int .u32 j) (hu : Tryz.prog.underlying t = some (.int .u32)) (hb : IntKind.u32.wrap (i + j) = q) : YieldsIf Tryz.prog ops S o (.int .u32 q) a := by
  refine y_ofG hw fun w _ => ?_
  unfold execOp
  simp only [ho, hx, hy]
  simp [go_sem, hu, hb]
def al4lt : List Lt := [(0, some 18, [5]), (0, some 19, [1]), (2, some 20, [19]), (0, some 21, [3]), (0, some 22, [11]), (24, some 23, [21, 22]), (32, some 24, [23]), (64, some 25, [24]), (0, some 26, [2]), (384, some 27, [25, 26]), (645, some 28, [18, 20, 27]), (2047, some 2, [28])]
theorem al4reg : Reg (opsA (cRA (cBA (cLA (cRA (cRA (cLpA (cBA (cRA (cLA (cRA (Tryz.f64.body.getD .skip)))))))))))) al4lt := ⟨by kernel_rfl, by kernel_rfl⟩
set_option maxHeartbeats 4000000 in
set_option maxRecDepth 100000 in
theorem calong_any (k P s c i F N : Nat) (pre y : List Nat) (av yv : Value) (w : World) (hT : Roots w) (ha : Row .u8 256 w av pre) (ta : Tidy av) (hy : Row .u8 256 w yv y) (ty : Tidy yv) (hi : i < 65536) (hF : F + N ≤ 256) (hy32 : y.length = 32) (hl : pre.length ≤ 40000) :
    Calls Tryz.prog 64 #[.agg #[.int .i64 (k : Int), .int .i64 (P : Int), .int .i64 (s : Int), .int .u64 (c : Int), av], .int .i64 (i : Int), yv, .int .u32 (F : Int), .int .u32 ((F + N : Nat) : Int)] w fun e w' => ∃ v, e = .returned v ∧ Row .u8 256 w' v (chN shaL pre i F N y) ∧ Tidy v ∧ (New w.heap.size v ∨ v = yv) ∧ Below w.heap.size w w' := by
  obtain ⟨aa, ac, rfl, _⟩ := ha.opens rfl
  have hH := fun (b : Nat) (z : List Nat) (hz : z.length = 32) y mv (hTy : Roots y) (ra : Row .u8 256 y (.slice aa pre.length ac) pre) (r : Rows2 y mv [[b], z]) => csum_any k P s c i pre [[b], z] _ mv y hTy ra ta r hi (by simp only [List.flatten_cons, List.flatten_nil, List.append_nil, List.length_append, List.length_singleton]; omega) (by simp)
  have hfl : ∀ (b : Nat) (z : List Nat), [[b], z].flatten = [b] ++ z := fun b z => by simp
  simp only [hfl] at hH
  have hlen : ∀ k, (chN shaL pre i F k y).length = 32 := chN_len shaL_len i F y hy32
  have h1 := fun (b : Nat) (hb : b < 256) y => cbe1 b y hb
  generalize shaL = HH at *
  obtain ⟨A, hA⟩ : ∃ A, pre.length = A := ⟨_, rfl⟩
  rw [hA] at ha ta hH ⊢
  obtain ⟨i0, hi0, hz0, hz1, hz2⟩ := info_text
  obtain ⟨W0, hW0⟩ : ∃ W0 : World, W0 = w.alloc (.cells #[.int .i64 (k : Int), .int .i64 (P : Int), .int .i64 (s : Int), .int .u64 (c : Int), .slice aa A ac] 84) := ⟨_, rfl⟩
  have hb0 : Below w.heap.size w W0 := by rw [hW0]; exact keep_alloc _ _
  have hbox : W0.rangeAt w.heap.size 0 [.int .i64 (k : Int), .int .i64 (P : Int), .int .i64 (s : Int), .int .u64 (c : Int), .slice aa A ac] := by rw [hW0]; exact lf_range _ _ _ _ _ _ _
  obtain ⟨T, hTT⟩ : ∃ T : Nat, T = F + N := ⟨_, rfl⟩
  rw [← hTT]
  have e_N : (T : Int) - (F : Int) = (N : Int) := by omega
  have s_N : IntKind.u32.wrap (N : Int) = (N : Int) := by rw [IntKind.wrap_u32]; omega
  have H0 := hide (show AlL W0 HH pre i F N y yv yv (.int .u32 0) W0 from ⟨0, Nat.zero_le _, rfl, hy.below hb0, ty, .inr rfl, Below.refl _ _⟩)
  have HI := hide (And.intro (ha.below hb0) (And.intro ta (And.intro hlen (And.intro hF (And.intro (hT.below hb0) (And.intro hb0 hi))))))
  clear ha ta hlen hF hT hfl hy ty hb0 hTT hi hA hl hy32
  go_enter Tryz.func64, Tryz.ntmps64
  go_wp2
  rw [← hW0]
  clear hW0
  go_loopw [2, 15] (fun vy vj wr => AlL W0 HH pre i F N y yv vy vj wr) (fun _ vj _ => N - (intOf vj).toNat)
  case atStart => exact H0.out
  case round =>
    obtain ⟨j, hj, rfl, rY, tY, nY, hbr⟩ := hrel
    obtain ⟨ha, ta, hlen, hF, hT, hb0, hi⟩ := HI.out
    clear H0
    rename World => wr
    by_cases hlt : j < N
    · have hjN : (j : Int) < (N : Int) := by omega
      obtain ⟨b, hbj⟩ : ∃ b : Nat, b = F + j := ⟨_, rfl⟩
      have hb8 : b < 256 := by omega
      have u_b : IntKind.u32.wrap ((F : Int) + (j : Int)) = (b : Int) := by rw [IntKind.wrap_u32]; omega
      obtain ⟨Q, hQ⟩ : ∃ x : Nat, x = j + 1 := ⟨_, rfl⟩
      have e_Q : (j : Int) + 1 = (Q : Int) := by omega
      have s_Q : IntKind.u32.wrap (Q : Int) = (Q : Int) := by rw [IntKind.wrap_u32]; omega
      have hch : HH (pre ++ (be2 i ++ ([b] ++ chN HH pre i F j y))) = chN HH pre i F (j + 1) y := by rw [hbj]; rfl
      have hHk := fun yy mv hTy ra r => hH b (chN HH pre i F j y) (hlen j) yy mv hTy ra r
      rw [hch] at hHk
      obtain ⟨ya, yc, rfl, _⟩ := rY.opens (hlen j)
      have hbox' := range_below hbox hbr
      have hbd : Below wr.heap.size wr wr.drew := (Below.refl _ _).drew
      have HK := hide (And.intro hbj (And.intro hQ (And.intro hlt (And.intro hb8 (And.intro hlen hF)))))
      have h1b := h1 b hb8
      have har := ha.below hbr
      have hTr := hT.below hbr
      clear hbj hQ hlt hch hlen hF hH h1
      go_wp2
      refine at_begin (ops := opsA (cRA (cBA (cLA (cRA (cRA (cLpA (cBA (cRA (cLA (cRA (Tryz.f64.body.getD .skip)))))))))))) (n := 12) (fun y => Below wr.heap.size wr y) (by kernel_rfl) (by kernel_rfl) ?_
      refine at_takeD (i := 0) (m' := 1) (d := some 18) (v := .agg #[.int .i64 (k : Int), .int .i64 (P : Int), .int .i64 (s : Int), .int .u64 (c : Int), .slice aa A ac]) al4reg rfl (by decide) rfl rfl (y_rowG (cs := [.int .i64 (k : Int), .int .i64 (P : Int), .int .i64 (s : Int), .int .u64 (c : Int), .slice aa A ac]) (wanted_free rfl) rfl rfl Tryz.underlying84 rfl (by kernel_rfl) (fun _ h => range_below hbox' h)) hbd ?_
      simp only [Act.put, List.setIfInBounds_toArray, List.set_cons_zero, List.set_cons_succ]
      refine at_takeD (i := 1) (m' := 3) (d := some 19) (v := .int .i64 (i : Int)) al4reg rfl (by decide) rfl rfl (y_moveG (wanted_free rfl) rfl rfl) hbd ?_
      simp only [Act.put, List.setIfInBounds_toArray, List.set_cons_zero, List.set_cons_succ]
      refine at_takeD (i := 2) (m' := 7) (d := some 20) (v := .int .u64 (i : Int)) al4reg rfl (by decide) rfl rfl (y_convI (wanted_free rfl) rfl rfl (conv_i64u64 i (by omega))) hbd ?_
      simp only [Act.put, List.setIfInBounds_toArray, List.set_cons_zero, List.set_cons_succ]
      refine at_takeD (i := 3) (m' := 15) (d := some 21) (v := .int .u32 (F : Int)) al4reg rfl (by decide) rfl rfl (y_moveG (wanted_free rfl) rfl rfl) hbd ?_
      simp only [Act.put, List.setIfInBounds_toArray, List.set_cons_zero, List.set_cons_succ]
      refine at_takeD (i := 4) (m' := 31) (d := some 22) (v := .int .u32 (j : Int)) al4reg rfl (by decide) rfl rfl (y_moveG (wanted_free rfl) rfl rfl) hbd ?_
      simp only [Act.put, List.setIfInBounds_toArray, List.set_cons_zero, List.set_cons_succ]
      refine at_takeD (i := 5) (m' := 63) (d := some 23) (v := .int .u32 (b : Int)) al4reg rfl (by decide) rfl rfl (y_addU (wanted_free rfl) rfl rfl rfl Tryz.underlying25 u_b) hbd ?_
      simp only [Act.put, List.setIfInBounds_toArray, List.set_cons_zero, List.set_cons_succ]
      refine at_takeD (i := 6) (m' := 127) (d := some 24) (v := .int .u64 (b : Int)) al4reg rfl (by decide) rfl rfl (y_convI (wanted_free rfl) rfl rfl (conv_u32u64 b (by omega))) hbd ?_
      simp only [Act.put, List.setIfInBounds_toArray, List.set_cons_zero, List.set_cons_succ]
      refine at_takeD (i := 8) (m' := 383) (d := some 26) (v := .slice ya 32 yc) al4reg rfl (by decide) rfl rfl (y_moveG (wanted_free rfl) rfl rfl) hbd ?_
      simp only [Act.put, List.setIfInBounds_toArray, List.set_cons_zero, List.set_cons_succ]
      refine at_one (i := 7) (m' := 511) al4reg (by decide) rfl ?_
      refine p_callG (args := #[.int .u64 (b : Int), .int .i64 1]) (d := some 25) rfl (wanted_free rfl) rfl (by simp only [List.map_toArray, List.map_cons, List.map_nil]; rfl) rfl Tryz.call31 ((h1b wr.drew).mono ?_)
      rintro e y9 ⟨bv, rfl, ob, g9⟩
      obtain ⟨ba, bc, rfl, _⟩ := ob.row.opens (N := 1) rfl
      have hb9 := keep_trans hbd g9
      have yb0 := hb9
      refine ⟨_, rfl, hb9, ?_⟩
      simp only [Act.put, List.setIfInBounds_toArray, List.set_cons_zero, List.set_cons_succ]
      refine at_one (i := 9) (m' := 1023) al4reg (by decide) rfl ?_
      refine p_build2G (d := some 27) rfl (wanted_free rfl) rfl rfl rfl rfl Tryz.underlying46 hi0 hz1 hz0 ?_
      have hb10 := keep_trans hb9 (keep_alloc y9 (.cells #[.slice ba 1 bc, .slice ya 32 yc] 24))
      have rr := rows_litL (B := y9.heap.size) (k := 2) (texts_cons ob.row ob.tidy (texts_cons (rY.below yb0) tY (Texts.nil _))) rfl rfl (by decide)
      refine ⟨hb10, ?_⟩
      simp only [Act.put, List.setIfInBounds_toArray, List.set_cons_zero, List.set_cons_succ]
      refine at_one (i := 10) (m' := 2047) al4reg (by decide) rfl ?_
      refine p_callG (args := #[.agg #[.int .i64 (k : Int), .int .i64 (P : Int), .int .i64 (s : Int), .int .u64 (c : Int), .slice aa A ac], .int .u64 (i : Int), .slice (some ⟨y9.heap.size, 0, none⟩) 2 2]) (d := some 28) rfl (wanted_free rfl) rfl (by simp only [List.map_toArray, List.map_cons, List.map_nil]; rfl) rfl Tryz.call63 ((hHk (y9.alloc (.cells #[.slice ba 1 bc, .slice ya 32 yc] 24)) _ (hTr.below hb10) (har.below hb10) rr).mono ?_)
      rintro e y11 ⟨xv, rfl, ox, g11⟩
      have ybs := (hb10).size
      have hb11 := keep_trans hb10 g11
      refine ⟨_, rfl, hb11, ?_⟩
      simp only [Act.put, List.setIfInBounds_toArray, List.set_cons_zero, List.set_cons_succ]
      refine at_takeD (i := 11) (m' := 4095) (d := some 2) (v := xv) al4reg rfl (by decide) rfl rfl (y_assignG (wanted_free rfl) rfl rfl) hb11 ?_
      simp only [Act.put, List.setIfInBounds_toArray, List.set_cons_zero, List.set_cons_succ]
      refine at_done al4reg (by decide) ?_
      go_wp2
      obtain ⟨hbj, hQ, hlt, hb8, hlen, hF⟩ := HK.out
      exact ⟨⟨j + 1, by omega, by rw [hQ], ox.row, ox.tidy, .inl (ox.new.mono (Nat.le_trans hbr.size ybs)), hbr.trans (hb11.mono hbr.size)⟩, by simp [intOf]; omega⟩
    · obtain rfl : j = N := by omega
      have hge : ¬ ((j : Int) < (j : Int)) := by omega
      obtain ⟨ya, yc, rfl, _⟩ := rY.opens (hlen j)
      have HK := hide (And.intro hbr (And.intro hb0 rY))
      clear hbr hb0 hlen hF ha hH rY
      go_wp2
      go_ret
      exact ⟨_, rfl, HK.out.2.2, tY, nY.imp (fun h => h.mono HK.out.2.1.size) id, keep_trans HK.out.2.1 HK.out.1⟩
end Go.Proofs.YtefndnbaifiboaaGreatDoor

/- Leaves that sign once, the program's own: leafOf, secretLeaf. -/
namespace Go.Proofs.YtefndnbaifiboaaGreatDoor
open Go.RowKit
set_option linter.unusedVariables false
set_option linter.unusedSimpArgs false

theorem own_butL {w w' : World} {base g : Nat} {e : TypeId} {size : Nat} {v : Value} {n : Nat} {xs : List Value} (h : w.ownsRow base e size v n xs) (hb : But g w w') (hg : g < base) : w'.ownsRow base e size v n xs := by
  obtain ⟨h1, h2⟩ := h
  refine ⟨h1, ?_⟩
  rcases h2 with h2 | ⟨q, cap, cur, rfl, h3, h4, h5⟩
  · exact .inl h2
  · exact .inr ⟨q, cap, cur, rfl, h3, by rw [hb.block q (Array.getElem?_eq_some_iff.1 h4).1 (by omega)]; exact h4, h5⟩
/-- a leaf's box -/
structure BxL (W : World) (B : Nat) (a b c d e : Value) : Prop where
  here : W.heap[B]? = some (.cells #[a, b, c, d, e] 84 (0, 0))
theorem BxL.lt {W : World} {B : Nat} {a b c d e : Value} (h : BxL W B a b c d e) : B < W.heap.size := (Array.getElem?_eq_some_iff.1 h.here).1
theorem BxL.below {W W' : World} {B : Nat} {a b c d e : Value} (h : BxL W B a b c d e) (hb : Below W.heap.size W W') : BxL W' B a b c d e := ⟨(hb.block _ h.lt).trans h.here⟩
theorem BxL.new (W : World) (a b c d e : Value) : BxL (W.alloc (.cells #[a, b, c, d, e] 84)) W.heap.size a b c d e := ⟨heap_alloc_new W _⟩
theorem BxL.row {W : World} {B : Nat} {a b c d e a' b' c' d' e' : Value} (h : BxL W B a b c d e) : BxL (W.setRow B #[a', b', c', d', e']) B a' b' c' d' e' := ⟨setRow_heap W B _ _ _ _ h.here⟩
theorem BxL.range {W : World} {B : Nat} {a b c d e : Value} (h : BxL W B a b c d e) : W.rangeAt B 0 [a, b, c, d, e] := fun j v hv => by
  rw [Nat.zero_add]
  simp only [World.cell?, h.here]
  simpa using hv
theorem BxL.ret {W : World} {B : Nat} {a b c d e : Value} (h : BxL W B a b c d e) {fn : Func} {p q : Tmp} (hr : fn.results = #[.cell p 84, .tmp q]) (tmps : Array Value) {v : Value} (hp : tmps.getD p undef = .pointer (some ⟨B, 0, none⟩)) (hv : tmps.getD q undef = v) :
    (results fn tmps).run Tryz.prog W = .ok (.tuple #[.agg #[a, b, c, d, e], v]) W := by
  subst hv
  have hp' : tmps[p]?.getD undef = .pointer (some ⟨B, 0, none⟩) := by simpa using hp
  simp [results, hr, hp', asAddr, run_loadVar_row W B 84 84 #[a, b, c, d, e] (0, 0) _ h.here Tryz.underlying84 rfl (by kernel_rfl)]
/-- all but a leaf's box stays -/
structure SF (Z : Nat) (x y : World) : Prop where
  but : But Z x y
  box : ∃ a b c d e, BxL y Z a b c d e
theorem SF.keep {Z : Nat} {x y z : World} (h : SF Z x y) (k : Below y.heap.size y z) : SF Z x z := ⟨h.but.trans (But.of_below k), by obtain ⟨a, b, c, d, e, h2⟩ := h.box; exact ⟨a, b, c, d, e, h2.below k⟩⟩
theorem SF.row {Z : Nat} {x y : World} (h : SF Z x y) (a b c d e : Value) : SF Z x (y.setRow Z #[a, b, c, d, e]) := ⟨h.but.setRow _, by obtain ⟨a, b, c, d, e, h2⟩ := h.box; exact ⟨_, _, _, _, _, h2.row⟩⟩
theorem SF.below {Z : Nat} {w x y : World} (h : SF Z x y) (hB : w.heap.size ≤ Z) (hk : Below w.heap.size w x) : Below w.heap.size w y := hk.trans (h.but.below hB hk.size)
theorem y_buildLf {ops : Array Oper} {S : World → Prop} {o : Oper} {a : Act} {x y : Operand} {z0 z1 z2 z3 : Value} {ja : Option Addr} {jn jc : Nat} (hw : Region.wanted o (yielded ops a.tmps) = true) (ho : o.op = .build 84 #[(0, x), (1, y)]) (hx : a.eval x = .agg #[z0, z1, z2, z3]) (hy : a.eval y = .slice ja jn jc) : YieldsIf Tryz.prog ops S o (.agg #[z0, z1, z2, z3, .slice ja jn jc]) a := by
  refine y_ofG hw fun w _ => ?_
  unfold execOp
  simp only [ho, List.map_toArray, List.map_cons, List.map_nil, hx, hy]
  simp [go_sem]
def lf6lt : List Lt := [(0, some 23, [8]), (0, some 24, [1]), (0, some 25, [2]), (4, some 26, [25]), (8, some 27, [26]), (18, some 28, [24, 27]), (48, some 29, [28]), (65, some 30, [23, 29]), (255, none, [6, 30]), (511, some 7, [])]
theorem lf6reg : Reg (opsA (cLA (cRA (cRA (cRA (cRA (Tryz.f76.body.getD .skip))))))) lf6lt := ⟨by kernel_rfl, by kernel_rfl⟩
set_option maxHeartbeats 4000000 in
set_option maxRecDepth 100000 in
theorem cleaf_no (x : Int) (q : Nat) (ia : Option Addr) (il ic : Nat) (w : World) (h : NoK x) :
    Calls Tryz.prog 76 #[.int .i64 x, .slice ia il ic, .int .u32 (q : Int)] w fun e w' => e = .returned (.tuple #[.agg #[.int .i64 0, .int .i64 0, .int .i64 0, .int .u64 0, .slice none 0 0], .int .i64 9]) ∧ Below w.heap.size w w' := by
  have hk := fun y => ckind_no x y h
  have b0 := BxL.new w (.int .i64 0) (.int .i64 0) (.int .i64 0) (.int .u64 0) (.slice none 0 0)
  have k0 := keep_alloc w (.cells #[.int .i64 0, .int .i64 0, .int .i64 0, .int .u64 0, .slice none 0 0] 84)
  clear h
  go_enter Tryz.func76, Tryz.ntmps76
  go_wp2_with (first
    | (go_at_call 91; refine (hk _).mono ?_; rintro e w1 ⟨rfl, g1⟩; have b1 := b0.below (keep_trans g1 (keep_alloc w1 (.cells #[.int .i64 0, .int .i64 0, .int .i64 0, .int .u64 0] 82))))
    | (refine wpList_store_row rfl 84 _ _ (by rfl) w.heap.size #[.int .i64 0, .int .i64 0, .int .i64 0, .int .u64 0, .slice none 0 0] (by rfl) (by rfl) _ _ b1.here (by kernel_rfl) rfl (by simp [Value.oneCell']) ?_)
    | fail)
  refine bodyPost_ret (v := .tuple #[.agg #[.int .i64 0, .int .i64 0, .int .i64 0, .int .u64 0, .slice none 0 0], .int .i64 9]) (b1.row.ret rfl _ rfl rfl) rfl ⟨rfl, ?_⟩
  exact (keep_trans k0 (keep_trans g1 (keep_alloc _ _))).trans (((But.refl _ _).setRow _).below (Nat.le_refl _) (Nat.le_of_lt b1.lt))
set_option maxHeartbeats 4000000 in
set_option maxRecDepth 100000 in
theorem cleaf_size {k n m s c P : Nat} (h : Kd k n m s c) (hP : P = n + m) (q : Nat) (ia : Option Addr) (il ic : Nat) (w : World) (hl : ¬ il = 16) :
    Calls Tryz.prog 76 #[.int .i64 (k : Int), .slice ia il ic, .int .u32 (q : Int)] w fun e w' => e = .returned (.tuple #[.agg #[.int .i64 0, .int .i64 0, .int .i64 0, .int .u64 0, .slice none 0 0], .int .i64 14]) ∧ Below w.heap.size w w' := by
  have hk := fun y => ckind_ok h hP y
  have hli : ¬ (il : Int) = 16 := by omega
  have b0 := BxL.new w (.int .i64 0) (.int .i64 0) (.int .i64 0) (.int .u64 0) (.slice none 0 0)
  have k0 := keep_alloc w (.cells #[.int .i64 0, .int .i64 0, .int .i64 0, .int .u64 0, .slice none 0 0] 84)
  clear h hP hl
  go_enter Tryz.func76, Tryz.ntmps76
  go_wp2_with (first
    | (go_at_call 91; refine (hk _).mono ?_; rintro e w1 ⟨rfl, g1⟩; have b1 := b0.below (keep_trans g1 (keep_alloc w1 (.cells #[.int .i64 (k : Int), .int .i64 (P : Int), .int .i64 (s : Int), .int .u64 (c : Int)] 82))))
    | (refine wpList_store_row rfl 84 _ _ (by rfl) w.heap.size #[.int .i64 0, .int .i64 0, .int .i64 0, .int .u64 0, .slice none 0 0] (by rfl) (by rfl) _ _ b1.here (by kernel_rfl) rfl (by simp [Value.oneCell']) ?_)
    | fail)
  refine bodyPost_ret (v := .tuple #[.agg #[.int .i64 0, .int .i64 0, .int .i64 0, .int .u64 0, .slice none 0 0], .int .i64 14]) (b1.row.ret rfl _ rfl rfl) rfl ⟨rfl, ?_⟩
  exact (keep_trans k0 (keep_trans g1 (keep_alloc _ _))).trans (((But.refl _ _).setRow _).below (Nat.le_refl _) (Nat.le_of_lt b1.lt))
set_option maxHeartbeats 4000000 in
set_option maxRecDepth 100000 in
theorem cleaf_ok {k n m s c P : Nat} (h : Kd k n m s c) (hP : P = n + m) (q : Nat) (id : List Nat) (idv : Value) (w : World) (hi : Row .u8 256 w idv id) (ti : Tidy idv) (hl : id.length = 16) (hq : q < 4294967296) :
    Calls Tryz.prog 76 #[.int .i64 (k : Int), idv, .int .u32 (q : Int)] w fun e w' => ∃ v, e = .returned (.tuple #[.agg #[.int .i64 (k : Int), .int .i64 (P : Int), .int .i64 (s : Int), .int .u64 (c : Int), v], .int .i64 0]) ∧ Own 5 .u8 256 w' w.heap.size v (preL id q) ∧ Below w.heap.size w w' := by
  obtain ⟨ia, ic, rfl, _⟩ := hi.opens hl
  have hk := fun y => ckind_ok h hP y
  have h4 := fun y => cbe4 q y (by omega)
  have hjn := fun y lv (r : Rows2 y lv [id, be4 q]) => join_any lv _ y r (by simp only [List.flatten_cons, List.flatten_nil, List.append_nil, List.length_append, be4_len]; omega)
  have hfl : [id, be4 q].flatten = preL id q := by simp [preL]
  rw [hfl] at hjn
  have hpl : (preL id q).length = 20 := by rw [len_pre, hl]
  obtain ⟨PR, hPR⟩ : ∃ x, x = preL id q := ⟨_, rfl⟩
  rw [← hPR] at hjn hpl ⊢
  obtain ⟨i0, hi0, hz0, hz1, hz2⟩ := info_text
  have b0 := BxL.new w (.int .i64 0) (.int .i64 0) (.int .i64 0) (.int .u64 0) (.slice none 0 0)
  have k0 := keep_alloc w (.cells #[.int .i64 0, .int .i64 0, .int .i64 0, .int .u64 0, .slice none 0 0] 84)
  clear h hP hPR hfl
  go_enter Tryz.func76, Tryz.ntmps76
  go_wp2_with (first
    | (go_at_call 91; refine (hk _).mono ?_; rintro e w1 ⟨rfl, g1⟩)
    | fail)
  have b1 := b0.below (keep_trans g1 (keep_alloc w1 (.cells #[.int .i64 (k : Int), .int .i64 (P : Int), .int .i64 (s : Int), .int .u64 (c : Int)] 82)))
  have kw1 : Below w.heap.size w (w1.alloc (.cells #[.int .i64 (k : Int), .int .i64 (P : Int), .int .i64 (s : Int), .int .u64 (c : Int)] 82)) := keep_trans k0 (keep_trans g1 (keep_alloc _ _))
  have hbox := kd_range w1 (.int .i64 (k : Int)) (.int .i64 (P : Int)) (.int .i64 (s : Int)) (.int .u64 (c : Int)) 82
  have hne : w1.heap.size ≠ w.heap.size := by have := g1.size; rw [World.size_alloc] at this; omega
  have hW1 : w.heap.size + 1 ≤ (w1.alloc (.cells #[.int .i64 (k : Int), .int .i64 (P : Int), .int .i64 (s : Int), .int .u64 (c : Int)] 82)).heap.size := by have := g1.size; rw [World.size_alloc] at this ⊢; omega
  generalize w1.alloc (.cells #[.int .i64 (k : Int), .int .i64 (P : Int), .int .i64 (s : Int), .int .u64 (c : Int)] 82) = W1 at *
  have hbd : SF w.heap.size W1 W1.drew := ⟨(But.refl _ _).drew, _, _, _, _, _, b1.below (Below.refl _ _).drew⟩
  refine at_begin (ops := opsA (cLA (cRA (cRA (cRA (cRA (Tryz.f76.body.getD .skip))))))) (n := 10) (fun y => SF w.heap.size W1 y) (by kernel_rfl) (by kernel_rfl) ?_
  refine at_takeD (i := 0) (m' := 1) (d := some 23) (v := .agg #[.int .i64 (k : Int), .int .i64 (P : Int), .int .i64 (s : Int), .int .u64 (c : Int)]) lf6reg rfl (by decide) rfl rfl (y_rowG (cs := [.int .i64 (k : Int), .int .i64 (P : Int), .int .i64 (s : Int), .int .u64 (c : Int)]) (wanted_free rfl) rfl rfl Tryz.underlying82 rfl (by kernel_rfl) (fun _ h j v hv => But.cell (hbox j v hv) h.but hne)) hbd ?_
  simp only [Act.put, List.setIfInBounds_toArray, List.set_cons_zero, List.set_cons_succ]
  refine at_takeD (i := 1) (m' := 3) (d := some 24) (v := .slice ia 16 ic) lf6reg rfl (by decide) rfl rfl (y_moveG (wanted_free rfl) rfl rfl) hbd ?_
  simp only [Act.put, List.setIfInBounds_toArray, List.set_cons_zero, List.set_cons_succ]
  refine at_takeD (i := 2) (m' := 7) (d := some 25) (v := .int .u32 (q : Int)) lf6reg rfl (by decide) rfl rfl (y_moveG (wanted_free rfl) rfl rfl) hbd ?_
  simp only [Act.put, List.setIfInBounds_toArray, List.set_cons_zero, List.set_cons_succ]
  refine at_takeD (i := 3) (m' := 15) (d := some 26) (v := .int .u64 (q : Int)) lf6reg rfl (by decide) rfl rfl (y_convI (wanted_free rfl) rfl rfl (conv_u32u64 q hq)) hbd ?_
  simp only [Act.put, List.setIfInBounds_toArray, List.set_cons_zero, List.set_cons_succ]
  refine at_one (i := 4) (m' := 31) lf6reg (by decide) rfl ?_
  refine p_callG (args := #[.int .u64 (q : Int), .int .i64 4]) (d := some 27) rfl (wanted_free rfl) rfl (by simp only [List.map_toArray, List.map_cons, List.map_nil]; rfl) rfl Tryz.call31 ((h4 W1.drew).mono ?_)
  rintro e y5 ⟨bv, rfl, ob, g5⟩
  obtain ⟨ba, bc, rfl, _⟩ := ob.row.opens (be4_len q)
  have hb5 := SF.keep hbd g5
  have yb0 := hb5
  refine ⟨_, rfl, hb5, ?_⟩
  simp only [Act.put, List.setIfInBounds_toArray, List.set_cons_zero, List.set_cons_succ]
  refine at_one (i := 5) (m' := 63) lf6reg (by decide) rfl ?_
  refine p_build2G (d := some 28) rfl (wanted_free rfl) rfl rfl rfl rfl Tryz.underlying46 hi0 hz1 hz0 ?_
  have hb6 := SF.keep hb5 (keep_alloc y5 (.cells #[.slice ia 16 ic, .slice ba 4 bc] 24))
  have rr := rows_litL (B := y5.heap.size) (k := 2) (texts_cons (hi.below (yb0.below (Nat.le_refl _) kw1)) ti (texts_cons ob.row ob.tidy (Texts.nil _))) rfl rfl (by decide)
  refine ⟨hb6, ?_⟩
  simp only [Act.put, List.setIfInBounds_toArray, List.set_cons_zero, List.set_cons_succ]
  refine at_one (i := 6) (m' := 127) lf6reg (by decide) rfl ?_
  refine p_callG (args := #[.slice (some ⟨y5.heap.size, 0, none⟩) 2 2]) (d := some 29) rfl (wanted_free rfl) rfl (by simp only [List.map_toArray, List.map_cons, List.map_nil]; rfl) rfl Tryz.call23 ((hjn (y5.alloc (.cells #[.slice ia 16 ic, .slice ba 4 bc] 24)) _ rr).mono ?_)
  rintro e y7 ⟨jv, rfl, oj, g7⟩
  obtain ⟨ja, jc, rfl, _⟩ := oj.row.opens hpl
  replace oj := oj.mono (Nat.le_trans hW1 (hb6).but.size)
  have hb7 := SF.keep hb6 g7
  have hbz := hb7
  refine ⟨_, rfl, hb7, ?_⟩
  simp only [Act.put, List.setIfInBounds_toArray, List.set_cons_zero, List.set_cons_succ]
  refine at_takeD (i := 7) (m' := 255) (d := some 30) (v := .agg #[.int .i64 (k : Int), .int .i64 (P : Int), .int .i64 (s : Int), .int .u64 (c : Int), .slice ja 20 jc]) lf6reg rfl (by decide) rfl rfl (y_buildLf (wanted_free rfl) rfl rfl rfl) hb7 ?_
  simp only [Act.put, List.setIfInBounds_toArray, List.set_cons_zero, List.set_cons_succ]
  refine at_one (i := 8) (m' := 511) lf6reg (by decide) rfl ?_
  obtain ⟨_, _, _, _, _, bz0⟩ := (hb7).box
  have hb9 := (hb7).row (.int .i64 (k : Int)) (.int .i64 (P : Int)) (.int .i64 (s : Int)) (.int .u64 (c : Int)) (.slice ja 20 jc)
  refine p_rowA (cells := #[.int .i64 (k : Int), .int .i64 (P : Int), .int .i64 (s : Int), .int .u64 (c : Int), .slice ja 20 jc]) rfl rfl rfl rfl rfl rfl bz0.here (by kernel_rfl) rfl (by simp [Value.oneCell']) ?_
  refine ⟨hb9, ?_⟩
  refine at_takeD (i := 9) (m' := 1023) (d := some 7) (v := .int .i64 0) lf6reg rfl (by decide) rfl rfl (y_assignG (wanted_free rfl) rfl rfl) hb9 ?_
  simp only [Act.put, List.setIfInBounds_toArray, List.set_cons_zero, List.set_cons_succ]
  refine at_done lf6reg (by decide) ?_
  go_wp2
  obtain ⟨_, _, _, _, _, bz⟩ := hbz.box
  refine bodyPost_ret (bz.row.ret rfl _ rfl rfl) rfl ⟨_, rfl, ?_, (hb9).below (Nat.le_refl _) kw1⟩
  exact Own.mono (B := w.heap.size + 1) ⟨own_butL oj.1 ((But.refl _ _).setRow _) (Nat.lt_succ_self _), oj.2⟩ (Nat.le_succ _)
end Go.Proofs.YtefndnbaifiboaaGreatDoor
