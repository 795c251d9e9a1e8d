/- Contracts of the document's right, mix; its tables. -/
import Derived.Test.YtjeofkemfpdieaaHKi2
import Derived.Laws.ShiftsVarLaws
import Derived.BigRegion
import Derived.Test.YtjeofkemfpdieaaQcB
namespace Go.Proofs.Ytjeofkemfpdieaa
open Go.RowKit
set_option linter.unusedVariables false
set_option linter.unusedSimpArgs false

/-- what right tells, of any number -/
def rgt (b : Bool) (r x : Nat) : Nat := bif b then rot true r x else x / 2 ^ r ||| x * 2 ^ (32 - r) % 18446744073709551616 % 4294967296
theorem rgt_rot {b : Bool} {r x : Nat} (hx : x < wm b) (hr : r ≤ 32) : rgt b r x = rot b r x := by
  cases b with
  | true => rfl
  | false =>
    show x / 2 ^ r ||| x * 2 ^ (32 - r) % 18446744073709551616 % 4294967296 = x / 2 ^ r ||| x * 2 ^ (32 - r) % 4294967296
    congr 1
    rw [Nat.mod_mod_of_dvd _ (by decide)]
theorem rgt_lt {b : Bool} {r x : Nat} (hx : x < 18446744073709551616) : rgt b r x < 18446744073709551616 := by
  cases b with
  | true => exact rot_lt (b := true) hx r
  | false =>
    have h2 : x * 2 ^ (32 - r) % 18446744073709551616 % 4294967296 < 4294967296 := Nat.mod_lt _ (by decide)
    exact Nat.or_lt_two_pow (n := 64) (Nat.lt_of_le_of_lt (Nat.div_le_self _ _) hx) (Nat.lt_of_lt_of_le h2 (by decide))
theorem and_ones32 (x : Nat) (hx : x < 18446744073709551616) : bits .and .u64 (x : Int) 4294967295 = ((x % 4294967296 : Nat) : Int) := by
  rw [show (4294967295 : Int) = ((4294967295 : Nat) : Int) from rfl, u64_and_nat x _ hx (by decide)]
  congr 1
  exact Nat.and_two_pow_sub_one_eq_mod x 32
theorem and_ones64 (x : Nat) (hx : x < 18446744073709551616) : bits .and .u64 (x : Int) 18446744073709551615 = ((x : Nat) : Int) := by
  rw [show (18446744073709551615 : Int) = ((18446744073709551615 : Nat) : Int) from rfl, u64_and_nat x _ hx (by decide)]
  congr 1
  rw [Nat.and_two_pow_sub_one_eq_mod x 64]
  exact Nat.mod_eq_of_lt hx

/-- what mix tells, of any number -/
def rmx (b sh : Bool) (r1 r2 r3 x : Nat) : Nat := rgt b r1 x ^^^ rgt b r2 x ^^^ (bif sh then x / 2 ^ r3 else rgt b r3 x)
theorem rmx_lt {b sh : Bool} {r1 r2 r3 x : Nat} (hx : x < 18446744073709551616) : rmx b sh r1 r2 r3 x < 18446744073709551616 := by
  have h := fun r => rgt_lt (b := b) (r := r) hx
  refine Nat.xor_lt_two_pow (n := 64) (Nat.xor_lt_two_pow (n := 64) (h r1) (h r2)) ?_
  cases sh with
  | true => exact Nat.lt_of_le_of_lt (Nat.div_le_self _ _) hx
  | false => exact h r3
theorem rmx_turn {b : Bool} {r1 r2 r3 x : Nat} (hx : x < wm b) (h1 : r1 < wb b) (h2 : r2 < wb b) (h3 : r3 < wb b) : rmx b false r1 r2 r3 x = turn3 b r1 r2 r3 x := by
  cases b with
  | true => rfl
  | false =>
    have h1' : r1 < 32 := h1
    have h2' : r2 < 32 := h2
    have h3' : r3 < 32 := h3
    unfold rmx turn3
    rw [rgt_rot hx (by omega), rgt_rot hx (by omega), cond_false, rgt_rot hx (by omega)]
theorem rmx_shft {b : Bool} {r1 r2 r3 x : Nat} (hx : x < wm b) (h1 : r1 < wb b) (h2 : r2 < wb b) : rmx b true r1 r2 r3 x = shft3 b r1 r2 r3 x := by
  cases b with
  | true => rfl
  | false =>
    have h1' : r1 < 32 := h1
    have h2' : r2 < 32 := h2
    unfold rmx shft3
    rw [rgt_rot hx (by omega), rgt_rot hx (by omega), cond_true]

end Go.Proofs.Ytjeofkemfpdieaa

/- Blocks as two words of 64 bits: the product. -/
namespace Go.Proofs.Ytjeofkemfpdieaa
open Go.RowKit
set_option linter.unusedVariables false
set_option linter.unusedSimpArgs false

theorem heap_oldQ (w : World) (o : Obj) (i : Nat) (h : i < w.heap.size) : (w.alloc o).heap[i]? = w.heap[i]? := by
  show (w.heap.push o)[i]? = w.heap[i]?
  rw [Array.getElem?_push, if_neg (Nat.ne_of_lt h)]
theorem cell_ofQ {W : World} {B i : Nat} {cs : Array Value} {t : TypeId} {fz : Nat × Nat} {v : Value} (h : W.heap[B]? = some (.cells cs t fz)) (hv : cs[i]? = some v) : W.cell? ⟨B, i, none⟩ = some v := by
  simp [World.cell?, h, hv]
theorem one2Q (a b : Int) : (#[.int .u64 a, .int .u64 b] : Array Value).all (·.oneCell') = true := by simp [Value.oneCell']
/-- a block in a box -/
def BxB (W : World) (B p : Nat) : Prop := ∃ f l : Nat, f < 2 ^ 64 ∧ l < 2 ^ 64 ∧ W.heap[B]? = some (.cells #[.int .u64 (f : Int), .int .u64 (l : Int)] 41 (0, 0)) ∧ pP f l = p
theorem bxB_keep {W W' : World} {B p : Nat} (h : BxB W B p) (hk : W'.heap[B]? = W.heap[B]?) : BxB W' B p := by
  obtain ⟨f, l, h1, h2, h3, h4⟩ := h
  exact ⟨f, l, h1, h2, hk.trans h3, h4⟩
theorem bxB_below {W W' : World} {B p : Nat} (h : BxB W B p) (hb : Below W.heap.size W W') : BxB W' B p := by
  refine bxB_keep h (hb.block B ?_)
  obtain ⟨f, l, _, _, h3, _⟩ := h
  exact (Array.getElem?_eq_some_iff.1 h3).1
theorem bk_mask {b f l X fb lb : Nat} (hfb : fb < 2 ^ 64) (hb : pP fb lb = b) (hf : f < 2 ^ 64) (hl : l < 2 ^ 64) (hX : pP f l = X) :
    Bk (.agg #[.int .u64 (bits .and .u64 (f : Int) (IntKind.u64.wrap (-((fb : Int) / 9223372036854775808)))), .int .u64 (bits .and .u64 (l : Int) (IntKind.u64.wrap (-((fb : Int) / 9223372036854775808))))]) ((b % 2) * X) := by
  have ht := pP_top lb hfb
  rw [hb] at ht
  rw [ht]
  have h2 : fb / 2 ^ 63 < 2 := by omega
  rcases bit_one h2 with e | e
  · have e2 : (fb : Int) / 9223372036854775808 = 0 := by omega
    rw [e, e2, Nat.zero_mul]
    have a := u64_and_nat f 0 hf (by decide)
    have c := u64_and_nat l 0 hl (by decide)
    rw [Nat.and_zero] at a c
    refine ⟨0, 0, by decide, by decide, ?_, pP_zero⟩
    rw [show IntKind.u64.wrap (-0) = ((0 : Nat) : Int) by decide, a, c]
  · have e2 : (fb : Int) / 9223372036854775808 = 1 := by omega
    rw [e, e2, Nat.one_mul]
    refine ⟨f, l, hf, hl, ?_, hX⟩
    rw [show IntKind.u64.wrap (-1) = 18446744073709551615 by decide, and_ones64 f hf, and_ones64 l hl]
/-- where the product's loop stands -/
def TmL (w : World) (p q : Nat) (vi : Value) (wr : World) : Prop := ∃ k O b X : Nat, k ≤ 128 ∧ vi = .int .i64 (k : Int) ∧ PrQ p q k O b X ∧ BxB wr w.heap.size b ∧ BxB wr (w.heap.size + 1) X ∧ BxB wr (w.heap.size + 2) 0 ∧ BxB wr (w.heap.size + 3) O ∧ Below w.heap.size w wr
def tmlt : List Lt := [(0, some 24, [2]), (1, some 25, [24]), (0, some 26, [3]), (6, some 27, [26]), (11, none, [2, 25]), (31, none, [3, 27])]
theorem tmreg : Reg (opsA (cRA (cRA (cBA (cLA (cRA (cRA (cLpA (cBA (cRA (cLA (cRA (cRA (Try.f21.body.getD .skip))))))))))))) ) tmlt := ⟨by kernel_rfl, by kernel_rfl⟩
section
variable {P : Program} {ops : Array Oper} {Q : Exit → Act → World → Prop} {K : Act → World → Prop}
/-- a load of many cells that stands alone -/
theorem p_loadR {i : Nat} {o : Oper} {a : Act} {w : World} {t t' : TypeId} {x : Operand} {g : Nat} {cs : Array Value} {fr : Nat × Nat} {d : Option Nat} {td : TypeDesc} (hi : ops[i]? = some o) (hg : o.guard = none) (ho : o.op = .load t x) (hx : a.eval x = .pointer (some ⟨g, 0, none⟩)) (hd : o.dst = d) (hb : w.heap[g]? = some (.cells cs t' fr)) (hu : P.underlying t = some td) (htd : (match td with | .struct _ | .array _ _ => true | _ => false) = true) (hs : (P.info? t).map (·.size) = some cs.size) (h : K (a.put d (.agg cs)) w) : wpOp P ops Q i K a w := by
  unfold wpOp
  simp only [hi]
  rw [if_pos (wanted_free hg)]
  left
  refine wp_load_row t x ho g hx t' cs fr td hb hu htd hs ?_
  rw [hd]
  exact h
end
set_option maxHeartbeats 4000000 in
set_option maxRecDepth 100000 in
theorem tm_reg (Q : Exit → Act → World → Prop) (x0 x1 x4 x5 x6 x7 x8 x9 x10 x11 x12 x13 x14 x15 x16 x17 x18 x19 x20 x21 x22 x23 x24 x25 x26 x27 x28 x29 : Value) (B b X fb lb fx lx : Nat) (W : World) (hfb : fb < 2 ^ 64) (hlb : lb < 2 ^ 64) (hb : pP fb lb = b) (hfx : fx < 2 ^ 64) (hlx : lx < 2 ^ 64) (hX : pP fx lx = X)
    (h0 : W.heap[B]? = some (.cells #[.int .u64 (fb : Int), .int .u64 (lb : Int)] 41 (0, 0))) (h1 : W.heap[B + 1]? = some (.cells #[.int .u64 (fx : Int), .int .u64 (lx : Int)] 41 (0, 0)))
    (hQ : ∀ (y25 y27 : Value) (z : World) (X' : Nat), Cg X' (2 * X) → BxB z B (b / 2) → BxB z (B + 1) X' → (∀ i, i < W.heap.size → i ≠ B → i ≠ B + 1 → z.heap[i]? = W.heap[i]?) → Below B W z → Q .normal { tmps := #[x0, x1, .pointer (some ⟨B, 0, none⟩), .pointer (some ⟨B + 1, 0, none⟩), x4, x5, x6, x7, x8, x9, x10, x11, x12, x13, x14, x15, x16, x17, x18, x19, x20, x21, x22, x23, .agg #[.int .u64 (fb : Int), .int .u64 (lb : Int)], y25, .agg #[.int .u64 (fx : Int), .int .u64 (lx : Int)], y27, x28, x29], defers := [] } z) :
    (Code.region 6 (opsA (cRA (cRA (cBA (cLA (cRA (cRA (cLpA (cBA (cRA (cLA (cRA (cRA (Try.f21.body.getD .skip)))))))))))))) true).wp Try.prog Q { tmps := #[x0, x1, .pointer (some ⟨B, 0, none⟩), .pointer (some ⟨B + 1, 0, none⟩), x4, x5, x6, x7, x8, x9, x10, x11, x12, x13, x14, x15, x16, x17, x18, x19, x20, x21, x22, x23, x24, x25, x26, x27, x28, x29], defers := [] } W := by
  have hnx := fun y => next_any _ b y ⟨fb, lb, hfb, hlb, rfl, hb⟩
  have htx := fun y => timesX_any _ X y ⟨fx, lx, hfx, hlx, rfl, hX⟩
  have lt0 := (Array.getElem?_eq_some_iff.1 h0).1
  have lt1 := (Array.getElem?_eq_some_iff.1 h1).1
  have hbd : Below W.heap.size W W.drew := (Below.refl _ _).drew
  have hK : ∀ (f3 l3 : Nat) (z : World), f3 < 2 ^ 64 → l3 < 2 ^ 64 → pP f3 l3 = b / 2 → Below W.heap.size W z → At Try.prog (opsA (cRA (cRA (cBA (cLA (cRA (cRA (cLpA (cBA (cRA (cLA (cRA (cRA (Try.f21.body.getD .skip)))))))))))))) Q (fun _ => True) 3 7 { tmps := #[x0, x1, .pointer (some ⟨B, 0, none⟩), .pointer (some ⟨B + 1, 0, none⟩), x4, x5, x6, x7, x8, x9, x10, x11, x12, x13, x14, x15, x16, x17, x18, x19, x20, x21, x22, x23, .agg #[.int .u64 (fb : Int), .int .u64 (lb : Int)], .agg #[.int .u64 (f3 : Int), .int .u64 (l3 : Int)], .agg #[.int .u64 (fx : Int), .int .u64 (lx : Int)], x27, x28, x29], defers := [] } z := by
    intro f3 l3 z hf3 hl3 h3 hbz
    refine at_one (i := 3) (m' := 15) tmreg (by decide) rfl ?_
    refine p_call1 (u := .agg #[.int .u64 (fx : Int), .int .u64 (lx : Int)]) (d := some 27) rfl rfl rfl rfl rfl Try.call37 ((htx _).mono ?_)
    rintro e z1 ⟨u1, X', rfl, ⟨f4, l4, hf4, hl4, rfl, h4⟩, hc, hb1⟩
    have hz1 := keep_trans hbz hb1
    have h01 := (hz1.block _ lt0).trans h0
    have h11 := (hz1.block _ lt1).trans h1
    refine ⟨_, rfl, trivial, ?_⟩
    simp only [Act.put, List.setIfInBounds_toArray, List.set_cons_zero, List.set_cons_succ]
    refine at_one (i := 4) (m' := 31) tmreg (by decide) rfl ?_
    refine p_rowA (g := B) (cells := #[.int .u64 (f3 : Int), .int .u64 (l3 : Int)]) rfl rfl rfl rfl rfl rfl h01 (by kernel_rfl) rfl (one2Q _ _) ⟨trivial, ?_⟩
    have hBt : But B z1 (z1.setRow B #[.int .u64 (f3 : Int), .int .u64 (l3 : Int)]) := (But.refl _ _).setRow _
    have h02 := setRow_heap z1 B _ #[.int .u64 (f3 : Int), .int .u64 (l3 : Int)] 41 _ h01
    have h12 := (hBt.block (B + 1) (by have := hz1.size; omega) (by omega)).trans h11
    have hbB : Below B W (z1.setRow B #[.int .u64 (f3 : Int), .int .u64 (l3 : Int)]) := (hz1.mono (by omega)).trans (hBt.below (Nat.le_refl _) (by have := hz1.size; omega))
    have hks : z1.heap.size ≤ (z1.setRow B #[.int .u64 (f3 : Int), .int .u64 (l3 : Int)]).heap.size := hBt.size
    have hk2 : ∀ i, i < W.heap.size → i ≠ B → (z1.setRow B #[.int .u64 (f3 : Int), .int .u64 (l3 : Int)]).heap[i]? = W.heap[i]? := fun i hi hn => (hBt.block i (by have := hz1.size; omega) hn).trans (hz1.block _ hi)
    generalize z1.setRow B #[.int .u64 (f3 : Int), .int .u64 (l3 : Int)] = z2 at *
    refine at_one (i := 5) (m' := 63) tmreg (by decide) rfl ?_
    refine p_rowA (g := B + 1) (cells := #[.int .u64 (f4 : Int), .int .u64 (l4 : Int)]) rfl rfl rfl rfl rfl rfl h12 (by kernel_rfl) rfl (one2Q _ _) ⟨trivial, ?_⟩
    have hBu : But (B + 1) z2 (z2.setRow (B + 1) #[.int .u64 (f4 : Int), .int .u64 (l4 : Int)]) := (But.refl _ _).setRow _
    have h13 := setRow_heap z2 (B + 1) _ #[.int .u64 (f4 : Int), .int .u64 (l4 : Int)] 41 _ h12
    have hsz2 : W.heap.size ≤ z2.heap.size := by have := hz1.size; omega
    refine at_done tmreg (by decide) ?_
    refine hQ _ _ _ X' hc ⟨f3, l3, hf3, hl3, (hBu.block B (by omega) (by omega)).trans h02, h3⟩ ⟨f4, l4, hf4, hl4, h13, h4⟩ (fun i hi n1 n2 => (hBu.block i (by omega) n2).trans (hk2 i hi n1)) ?_
    exact hbB.trans (hBu.below (by omega) (by omega))
  refine at_begin (ops := (opsA (cRA (cRA (cBA (cLA (cRA (cRA (cLpA (cBA (cRA (cLA (cRA (cRA (Try.f21.body.getD .skip))))))))))))))) (n := 6) (fun _ => True) (by kernel_rfl) (by kernel_rfl) ?_
  refine at_two (i := 0) (j := 2) (m1 := 1) (m2 := 4) tmreg (by decide) rfl rfl ?_ ?_
  · refine p_loadR (g := B) (cs := #[.int .u64 (fb : Int), .int .u64 (lb : Int)]) (d := some 24) rfl rfl rfl rfl rfl h0 Try.underlying41 rfl (by kernel_rfl) ⟨trivial, ?_⟩
    simp only [Act.put, List.setIfInBounds_toArray, List.set_cons_zero, List.set_cons_succ]
    refine at_two (i := 1) (j := 2) (m1 := 3) (m2 := 5) tmreg (by decide) rfl rfl ?_ ?_
    · refine p_call1 (u := .agg #[.int .u64 (fb : Int), .int .u64 (lb : Int)]) (d := some 25) rfl rfl rfl rfl rfl Try.call36 ((hnx _).mono ?_)
      rintro e z1 ⟨u1, rfl, ⟨f3, l3, hf3, hl3, rfl, h3⟩, hb1⟩
      refine ⟨_, rfl, trivial, ?_⟩
      simp only [Act.put, List.setIfInBounds_toArray, List.set_cons_zero, List.set_cons_succ]
      refine at_one (i := 2) (m' := 7) tmreg (by decide) rfl ?_
      refine p_loadR (g := B + 1) (cs := #[.int .u64 (fx : Int), .int .u64 (lx : Int)]) (d := some 26) rfl rfl rfl rfl rfl (((keep_trans hbd hb1).block _ lt1).trans h1) Try.underlying41 rfl (by kernel_rfl) ⟨trivial, ?_⟩
      simp only [Act.put, List.setIfInBounds_toArray, List.set_cons_zero, List.set_cons_succ]
      exact hK f3 l3 z1 hf3 hl3 h3 (keep_trans hbd hb1)
    · refine p_loadR (g := B + 1) (cs := #[.int .u64 (fx : Int), .int .u64 (lx : Int)]) (d := some 26) rfl rfl rfl rfl rfl h1 Try.underlying41 rfl (by kernel_rfl) ⟨trivial, ?_⟩
      simp only [Act.put, List.setIfInBounds_toArray, List.set_cons_zero, List.set_cons_succ]
      refine at_one (i := 1) (m' := 7) tmreg (by decide) rfl ?_
      refine p_call1 (u := .agg #[.int .u64 (fb : Int), .int .u64 (lb : Int)]) (d := some 25) rfl rfl rfl rfl rfl Try.call36 ((hnx _).mono ?_)
      rintro e z1 ⟨u1, rfl, ⟨f3, l3, hf3, hl3, rfl, h3⟩, hb1⟩
      refine ⟨_, rfl, trivial, ?_⟩
      simp only [Act.put, List.setIfInBounds_toArray, List.set_cons_zero, List.set_cons_succ]
      exact hK f3 l3 z1 hf3 hl3 h3 (keep_trans hbd hb1)
  · refine p_loadR (g := B + 1) (cs := #[.int .u64 (fx : Int), .int .u64 (lx : Int)]) (d := some 26) rfl rfl rfl rfl rfl h1 Try.underlying41 rfl (by kernel_rfl) ⟨trivial, ?_⟩
    simp only [Act.put, List.setIfInBounds_toArray, List.set_cons_zero, List.set_cons_succ]
    refine at_one (i := 0) (m' := 5) tmreg (by decide) rfl ?_
    refine p_loadR (g := B) (cs := #[.int .u64 (fb : Int), .int .u64 (lb : Int)]) (d := some 24) rfl rfl rfl rfl rfl h0 Try.underlying41 rfl (by kernel_rfl) ⟨trivial, ?_⟩
    simp only [Act.put, List.setIfInBounds_toArray, List.set_cons_zero, List.set_cons_succ]
    refine at_one (i := 1) (m' := 7) tmreg (by decide) rfl ?_
    refine p_call1 (u := .agg #[.int .u64 (fb : Int), .int .u64 (lb : Int)]) (d := some 25) rfl rfl rfl rfl rfl Try.call36 ((hnx _).mono ?_)
    rintro e z1 ⟨u1, rfl, ⟨f3, l3, hf3, hl3, rfl, h3⟩, hb1⟩
    refine ⟨_, rfl, trivial, ?_⟩
    simp only [Act.put, List.setIfInBounds_toArray, List.set_cons_zero, List.set_cons_succ]
    exact hK f3 l3 z1 hf3 hl3 h3 (keep_trans hbd hb1)
set_option maxHeartbeats 4000000 in
set_option maxRecDepth 100000 in
theorem times_any (v u : Value) (p q : Nat) (w : World) (hv : Bk v p) (hu : Bk u q) :
    Calls Try.prog 21 #[v, u] w fun e w' => ∃ r, e = .returned r ∧ Bk r (mulG p q) ∧ Below w.heap.size w w' := by
  have hp := hv.lt
  have hq := hu.lt
  obtain ⟨f, l, hf, hl, rfl, hpp⟩ := hv
  obtain ⟨g, m, hg, hm, rfl, hqq⟩ := hu
  have hz := zeroB
  have HZ := hide hz
  have H0 : Hid (TmL w p q (.int .i64 0) ((((w.alloc (.cells #[.int .u64 (f : Int), .int .u64 (l : Int)] 41)).alloc (.cells #[.int .u64 (g : Int), .int .u64 (m : Int)] 41)).alloc (.cells #[.int .u64 0, .int .u64 0] 41)).alloc (.cells #[.int .u64 0, .int .u64 0] 41))) := by
    refine hide ⟨0, 0, p, q, by decide, rfl, PrQ.start p q, ?_, ?_, ?_, ?_, ?_⟩
    · refine ⟨f, l, hf, hl, ?_, hpp⟩
      rw [heap_oldQ _ _ _ (by simp; omega), heap_oldQ _ _ _ (by simp; omega), heap_oldQ _ _ _ (by simp), heap_alloc_new]
    · refine ⟨g, m, hg, hm, ?_, hqq⟩
      rw [heap_oldQ _ _ _ (by simp), heap_oldQ _ _ _ (by simp), heap_alloc2_new]
    · refine ⟨0, 0, by decide, by decide, ?_, pP_zero⟩
      rw [heap_oldQ _ _ _ (by simp), heap_alloc3_newQ]
      rfl
    · refine ⟨0, 0, by decide, by decide, ?_, pP_zero⟩
      have := heap_alloc3_newQ (w.alloc (.cells #[.int .u64 (f : Int), .int .u64 (l : Int)] 41)) (.cells #[.int .u64 (g : Int), .int .u64 (m : Int)] 41) (.cells #[.int .u64 0, .int .u64 0] 41) (.cells #[.int .u64 0, .int .u64 0] 41)
      rw [World.size_alloc] at this
      exact this
    · exact keep_trans (keep_trans (keep_trans (keep_alloc _ _) (keep_alloc _ _)) (keep_alloc _ _)) (keep_alloc _ _)
  have HPQ := hide (And.intro hp hq)
  clear hp hq hpp hqq hf hl hg hm
  go_enter Try.func21, Try.ntmps21
  go_wp2
  go_loopw [7] (fun vi wr => TmL w p q vi wr) (fun vi _ => 128 - (intOf vi).toNat)
  case atStart => exact H0.out
  case round =>
    obtain ⟨k, O, b, X, hk, rfl, hR, hB0, hB1, hB2, hB3, hbel⟩ := hrel
    clear H0 hz
    have hsz : w.heap.size + 3 < wr.heap.size := by obtain ⟨_, _, _, _, h, _⟩ := hB3; exact (Array.getElem?_eq_some_iff.1 h).1
    by_cases hlt : k < 128
    · have hli : (k : Int) < 128 := by omega
      have hB0' := hB0
      obtain ⟨fb, lb, hfb, hlb, h0, hb⟩ := hB0'
      have hB1' := hB1
      obtain ⟨fx, lx, hfx, hlx, h1, hX⟩ := hB1'
      obtain ⟨fo, lo, hfo, hlo, h3, hO⟩ := hB3
      have c0 := cell_ofQ (i := 0) h0 rfl
      have c1 := cell_ofQ (i := 0) h1 rfl
      have c2 := cell_ofQ (i := 1) h1 rfl
      have hs63 : (2 : Nat) ^ 63 = 9223372036854775808 := by decide
      have HR := hide (And.intro hR (And.intro hbel (And.intro hk hlt)))
      have hmk := bk_mask hfb hb hfx hlx hX
      have hxo := fun y => xored_any _ _ O _ y ⟨fo, lo, hfo, hlo, rfl, hO⟩ hmk
      have HB := hide (And.intro hB0 (And.intro hB1 hB2))
      have HF := hide (And.intro hfb (And.intro hlb (And.intro hb (And.intro hfx (And.intro hlx hX)))))
      clear hB0 hB1 hB2 hR hbel hmk hk hlt hfo hlo hO hfb hlb hfx hlx
      go_wp2_with (first
        | (refine wpList_load_row rfl 41 _ (by rfl) (w.heap.size + 3) (by rfl) _ _ _ _ h3 Try.underlying41 rfl (by kernel_rfl) ?_)
        | (go_at_call 35; refine (hxo _).mono ?_; rintro e w1 ⟨r1, rfl, ⟨fo1, lo1, hfo1, hlo1, rfl, hO1⟩, hb1⟩; have h31 := (hb1.block _ hsz).trans h3)
        | (refine wpList_store_row rfl 41 _ _ (by rfl) (w.heap.size + 3) #[.int .u64 (fo1 : Int), .int .u64 (lo1 : Int)] (by rfl) (by rfl) _ _ h31 (by kernel_rfl) rfl (one2Q _ _) ?_)
        | fail)
      have h32 := setRow_heap w1 (w.heap.size + 3) _ #[.int .u64 (fo1 : Int), .int .u64 (lo1 : Int)] 41 _ h31
      have hBt : But (w.heap.size + 3) w1 (w1.setRow (w.heap.size + 3) #[.int .u64 (fo1 : Int), .int .u64 (lo1 : Int)]) := (But.refl _ _).setRow _
      have h02 : (w1.setRow (w.heap.size + 3) #[.int .u64 (fo1 : Int), .int .u64 (lo1 : Int)]).heap[w.heap.size]? = _ := (hBt.block _ (by have := hb1.size; omega) (by omega)).trans ((hb1.block _ (by omega)).trans h0)
      have h12 : (w1.setRow (w.heap.size + 3) #[.int .u64 (fo1 : Int), .int .u64 (lo1 : Int)]).heap[w.heap.size + 1]? = _ := (hBt.block _ (by have := hb1.size; omega) (by omega)).trans ((hb1.block _ (by omega)).trans h1)
      have h22 : BxB (w1.setRow (w.heap.size + 3) #[.int .u64 (fo1 : Int), .int .u64 (lo1 : Int)]) (w.heap.size + 2) 0 := bxB_keep HB.out.2.2 ((hBt.block _ (by have := hb1.size; omega) (by omega)).trans (hb1.block _ (by omega)))
      have hbA : Below w.heap.size w (w1.setRow (w.heap.size + 3) #[.int .u64 (fo1 : Int), .int .u64 (lo1 : Int)]) := (keep_trans HR.out.2.1 hb1).trans (hBt.below (by omega) (keep_trans HR.out.2.1 hb1).size)
      have hszA : w.heap.size + 3 < (w1.setRow (w.heap.size + 3) #[.int .u64 (fo1 : Int), .int .u64 (lo1 : Int)]).heap.size := (Array.getElem?_eq_some_iff.1 h32).1
      simp only [Act.put]
      generalize w1.setRow (w.heap.size + 3) #[.int .u64 (fo1 : Int), .int .u64 (lo1 : Int)] = W2 at *
      clear hBt h31 h3 hxo hsz c0 c1 c2
      refine tm_reg _ _ _ _ _ _ _ _ _ _ _ _ _ _ _ _ _ _ _ _ _ _ _ _ _ _ _ _ _ w.heap.size b X fb lb fx lx W2 HF.out.1 HF.out.2.1 HF.out.2.2.1 HF.out.2.2.2.1 HF.out.2.2.2.2.1 HF.out.2.2.2.2.2 h02 h12 ?_
      intro y25 y27 z X' hc hz0 hz1 hzk hzb
      have hz2 := bxB_keep h22 (hzk _ (by omega) (by omega) (by omega))
      have hz3 : BxB z (w.heap.size + 3) (O ^^^ (b % 2) * X) := ⟨fo1, lo1, hfo1, hlo1, (hzk _ hszA (by omega) (by omega)).trans h32, hO1⟩
      have hzB := hbA.trans hzb
      obtain ⟨Q, hQ⟩ : ∃ x : Nat, x = k + 1 := ⟨_, rfl⟩
      have e_Q : (k : Int) + 1 = (Q : Int) := by omega
      have s_Q : IntKind.i64.wrap (Q : Int) = (Q : Int) := by have := HR.out.2.2.2; rw [IntKind.wrap_i64]; omega
      have HQ := hide hQ
      have HZ2 : Hid (TmL w p q (.int .i64 (Q : Int)) z) := hide ⟨k + 1, _, _, _, by have := HR.out.2.2.2; omega, by rw [hQ], HR.out.1.step hc, hz0, hz1, hz2, hz3, hzB⟩
      clear hQ hz0 hz1 hz2 hz3 hzB hzk hzb h02 h12 h22 h32
      go_wp2
      go_roundw
      case rel => exact HZ2.out
      case measure => have := HR.out.2.2.2; have := HQ.out; simp [intOf]; omega
    · obtain rfl : k = 128 := by omega
      have hge : ¬ ((128 : Nat) : Int) < 128 := by decide
      obtain ⟨fo, lo, hfo, hlo, h3, hO⟩ := hB3
      obtain ⟨fr, lr, hfr, hlr, h2, _⟩ := hB2
      have hE := hR.all HPQ.out.1 HPQ.out.2 (by rw [← hO]; exact pP_lt _ _)
      have HH := hide (And.intro hE (And.intro hfo (And.intro hlo (And.intro hO hbel))))
      have h2' := setRow_heap wr (w.heap.size + 2) _ #[.int .u64 (fo : Int), .int .u64 (lo : Int)] 41 _ h2
      have hBt : But (w.heap.size + 2) wr (wr.setRow (w.heap.size + 2) #[.int .u64 (fo : Int), .int .u64 (lo : Int)]) := (But.refl _ _).setRow _
      have HB := hide hBt
      clear hE hfo hlo hO hbel hR hB0 hB1 hlt hk hfr hlr hsz hBt
      go_wp2_with (first
        | (refine wpList_load_row rfl 41 _ (by rfl) (w.heap.size + 3) (by rfl) _ _ _ _ h3 Try.underlying41 rfl (by kernel_rfl) ?_)
        | (refine wpList_store_row rfl 41 _ _ (by rfl) (w.heap.size + 2) #[.int .u64 (fo : Int), .int .u64 (lo : Int)] (by rfl) (by rfl) _ _ h2 (by kernel_rfl) rfl (one2Q _ _) ?_)
        | fail)
      refine bodyPost_ret (results_cell_row Try.results21 _ _ (w.heap.size + 2) _ _ _ _ (by rfl) h2' Try.underlying41 rfl (by kernel_rfl)) rfl ?_
      obtain ⟨hE, hfo, hlo, hO, hbel⟩ := HH.out
      exact ⟨_, rfl, ⟨fo, lo, hfo, hlo, rfl, hO.trans hE⟩, hbel.trans (HB.out.below (by omega) hbel.size)⟩
end Go.Proofs.Ytjeofkemfpdieaa
