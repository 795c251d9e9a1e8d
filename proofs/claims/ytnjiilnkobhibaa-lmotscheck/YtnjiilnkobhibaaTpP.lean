/- The document's Parts. -/
import Derived.Test.YtnjiilnkobhibaaLmR3
import Derived.Test.YtnjiilnkobhibaaPApp
import Derived.Test.YtnjiilnkobhibaaPlIn
import Derived.Test.YtnjiilnkobhibaaPgF
namespace Go.Proofs.Ytnjiilnkobhibaa
open Go.RowKit
set_option linter.unusedVariables false
set_option linter.unusedSimpArgs false

def ptlt : List Lt := [(0, some 21, [7]), (0, some 22, [1]), (0, some 23, [9]), (6, some 24, [22, 23]), (8, some 25, [24]), (17, some 26, [21, 25]), (32, some 20, [26]), (64, some 27, [20]), (64, some 28, [20]), (64, some 29, [20]), (0, some 10, []), (1279, none, [10, 27]), (3583, some 11, [28]), (8191, some 12, [29])]
theorem at_beginR {P : Program} {ops : Array Oper} {id k : Nat} {a : Act} {w : World} {Q : Exit → Act → World → Prop} {R : Act → World → Prop} (S : World → Prop) (hm : P.follows .mixedOrders = true) (hn : ops.size = k) (h : At P ops (onlyN R) S k 0 a w.drew) (hQ : ∀ a w, R a w → Q .normal a w) : (Code.region id ops true).wp P Q a w := by
  refine Code.wp_mono ?_ (at_begin S hm hn h)
  intro e a w hh
  cases e <;> first | exact hQ _ _ hh | exact (hh : False).elim
/-- an int read off a slice of ints -/
theorem y_index_at {P : Program} {ops : Array Oper} {S : World → Prop} {o : Oper} {a : Act} {x y : Operand} {t e : TypeId} {g f n c i : Nat} (hg : o.guard = none) (ho : o.op = .indexAddr t x y) (hx : a.eval x = .slice (some ⟨g, f, none⟩) n c) (hy : a.eval y = .int .i64 (i : Int)) (hu : P.underlying t = some (.slice e)) (hs : (P.info? e).map (·.size) = some 1) (hi : i < n) : YieldsIf P ops S o (.pointer (some ⟨g, f + i, none⟩)) a := by
  cases hq : P.info? e with
  | none => simp [hq] at hs
  | some z =>
    have hz : z.size = 1 := by simpa [hq] using hs
    refine y_of hg fun w _ => ?_
    unfold execOp
    simp only [ho, hx, hy]
    simp [Instr.indexAt, asIntOf, Sem.run_bind, run_underlying hu w, sizeOf, typeInfo, hq, hz, hi, Addr.add, go_sem]
    try omega
theorem p_alloc2 {P : Program} {ops : Array Oper} {K : Act → World → Prop} {Q : Exit → Act → World → Prop} {i : Nat} {o : Oper} {a : Act} {w : World} {t : TypeId} {d : Option Nat} {z : TypeInfo} {v0 v1 : Value} (hi : ops[i]? = some o) (hg : o.guard = none) (ho : o.op = .alloc t) (hd : o.dst = d) (hz : P.info? t = some z) (hz0 : z.zero = some (.agg #[v0, v1]))
    (h : K (a.put d (.pointer (some ⟨w.heap.size, 0, none⟩))) (w.alloc (.cells #[v0, v1] t))) : wpOp P ops Q i K a w := by
  have hr : (execOp a.eval o).run P w = .ok (.value (.pointer (some ⟨w.heap.size, 0, none⟩))) (w.alloc (.cells #[v0, v1] t)) := by
    unfold execOp
    simp only [ho]
    simp [Sem.run_bind, Instr.alloc, zeroValue, typeInfo, hz, hz0, go_sem]
  unfold wpOp
  simp only [hi]
  rw [if_pos (wanted_free hg)]
  left
  unfold Oper.wp
  rw [hr]
  show K (a.put o.dst _) _
  rw [hd]
  exact h
/-- Take, whatever comes -/
def tkY (n : Nat) (x k : Int) : Int := if tkC n x k = 0 then x + k else x
theorem keep_row {x y : World} {B : Nat} {c : Array Value} (h : Below x.heap.size x y) (hB : x.heap.size ≤ B) : Below x.heap.size x (y.setRow B c) := h.trans (((But.refl B y).setRow c).below hB h.size)
theorem own_set2 {W : World} {base B n : Nat} {e : TypeId} {v u0 u1 : Value} {xs : List Value} (h : W.ownsRow base e 1 v n xs) (hB : B < base) : ((W.setCell ⟨B, 0, none⟩ u0).setCell ⟨B, 1, none⟩ u1).ownsRow base e 1 v n xs := by
  have hb := but_set2 W B u0 u1
  refine h.kept (row := some B) ⟨hb.os, hb.tape, hb.output, hb.size, fun k hk hne => hb.block k hk fun e => hne (by rw [e])⟩ ?_
  cases hvo : v.ownBlock with
  | none => exact .inl rfl
  | some q => exact .inr fun e => by have := (h.lt q hvo).1; cases e; omega
theorem own_after {W : World} {base n : Nat} {e : TypeId} {v : Value} {xs : List Value} (h : W.ownsRow base e 1 v n xs) (W0 : World) (B : Nat) (u0 u1 : Value) (hB : B < base) (o : Obj) : (((W.setCell ⟨B, 0, none⟩ u0).setCell ⟨B, 1, none⟩ u1).alloc o).ownsRow base e 1 v n xs := (own_set2 h hB).alloc o
end Go.Proofs.Ytnjiilnkobhibaa

/- Leaves that sign once, the program's own: kindOf, and a kind's code, size, top. -/
namespace Go.Proofs.Ytnjiilnkobhibaa
open Go.RowKit
set_option linter.unusedVariables false
set_option linter.unusedSimpArgs false

set_option maxHeartbeats 2000000 in
set_option maxRecDepth 100000 in
theorem ckind_no (x : Int) (w : World) (h : NoK x) : Calls Try.prog 12 #[.int .i64 x] w fun e w' => e = .returned (.tuple #[.agg #[.int .i64 0, .int .i64 0, .int .i64 0, .int .u64 0], .int .i64 9]) ∧ Below w.heap.size w w' := by
  obtain ⟨h1, h2, h4, h8⟩ := h
  go_enter Try.func12, Try.ntmps12
  go_wp2
  refine bodyPost_ret (v := .tuple #[.agg #[.int .i64 0, .int .i64 0, .int .i64 0, .int .u64 0], .int .i64 9]) (by simp [results, Try.results12, go_sem]) rfl ⟨rfl, ?_⟩
  exact keep_alloc _ _
set_option maxHeartbeats 2000000 in
set_option maxRecDepth 100000 in
theorem ckind_1 (w : World) : Calls Try.prog 12 #[.int .i64 1] w fun e w' => e = .returned (.tuple #[.agg #[.int .i64 1, .int .i64 265, .int .i64 7, .int .u64 1], .int .i64 0]) ∧ Below w.heap.size w w' := by
  go_enter Try.func12, Try.ntmps12
  go_wp2
  refine bodyPost_ret (v := .tuple #[.agg #[.int .i64 1, .int .i64 265, .int .i64 7, .int .u64 1], .int .i64 0]) (by simp [results, Try.results12, go_sem]) rfl ⟨rfl, ?_⟩
  exact keep_alloc _ _
set_option maxHeartbeats 2000000 in
set_option maxRecDepth 100000 in
theorem ckind_2 (w : World) : Calls Try.prog 12 #[.int .i64 2] w fun e w' => e = .returned (.tuple #[.agg #[.int .i64 2, .int .i64 133, .int .i64 6, .int .u64 2], .int .i64 0]) ∧ Below w.heap.size w w' := by
  go_enter Try.func12, Try.ntmps12
  go_wp2
  refine bodyPost_ret (v := .tuple #[.agg #[.int .i64 2, .int .i64 133, .int .i64 6, .int .u64 2], .int .i64 0]) (by simp [results, Try.results12, go_sem]) rfl ⟨rfl, ?_⟩
  exact keep_alloc _ _
set_option maxHeartbeats 2000000 in
set_option maxRecDepth 100000 in
theorem ckind_4 (w : World) : Calls Try.prog 12 #[.int .i64 4] w fun e w' => e = .returned (.tuple #[.agg #[.int .i64 4, .int .i64 67, .int .i64 4, .int .u64 3], .int .i64 0]) ∧ Below w.heap.size w w' := by
  go_enter Try.func12, Try.ntmps12
  go_wp2
  refine bodyPost_ret (v := .tuple #[.agg #[.int .i64 4, .int .i64 67, .int .i64 4, .int .u64 3], .int .i64 0]) (by simp [results, Try.results12, go_sem]) rfl ⟨rfl, ?_⟩
  exact keep_alloc _ _
set_option maxHeartbeats 2000000 in
set_option maxRecDepth 100000 in
theorem ckind_8 (w : World) : Calls Try.prog 12 #[.int .i64 8] w fun e w' => e = .returned (.tuple #[.agg #[.int .i64 8, .int .i64 34, .int .i64 0, .int .u64 4], .int .i64 0]) ∧ Below w.heap.size w w' := by
  go_enter Try.func12, Try.ntmps12
  go_wp2
  refine bodyPost_ret (v := .tuple #[.agg #[.int .i64 8, .int .i64 34, .int .i64 0, .int .u64 4], .int .i64 0]) (by simp [results, Try.results12, go_sem]) rfl ⟨rfl, ?_⟩
  exact keep_alloc _ _
theorem ckind_ok {k n m s c P : Nat} (h : Kd k n m s c) (hP : P = n + m) (w : World) : Calls Try.prog 12 #[.int .i64 (k : Int)] w fun e w' => e = .returned (.tuple #[.agg #[.int .i64 (k : Int), .int .i64 (P : Int), .int .i64 (s : Int), .int .u64 (c : Int)], .int .i64 0]) ∧ Below w.heap.size w w' := by
  subst hP
  cases h
  · exact ckind_1 w
  · exact ckind_2 w
  · exact ckind_4 w
  · exact ckind_8 w
set_option maxHeartbeats 2000000 in
set_option maxRecDepth 100000 in
theorem ksize_any (k P s c : Nat) (w : World) (hP : P ≤ 1000) : Calls Try.prog 18 #[.agg #[.int .i64 (k : Int), .int .i64 (P : Int), .int .i64 (s : Int), .int .u64 (c : Int)]] w fun e w' => e = .returned (.int .i64 ((36 + 32 * P : Nat) : Int)) ∧ Below w.heap.size w w' := by
  obtain ⟨A, hA⟩ : ∃ A : Nat, A = 32 * P := ⟨_, rfl⟩
  obtain ⟨B, hB⟩ : ∃ B : Nat, B = 36 + A := ⟨_, rfl⟩
  have e_A : (P : Int) * 32 = (A : Int) := by omega
  have s_A : IntKind.i64.wrap (A : Int) = (A : Int) := by rw [IntKind.wrap_i64]; omega
  have e_B : (36 : Int) + (A : Int) = (B : Int) := by omega
  have s_B : IntKind.i64.wrap (B : Int) = (B : Int) := by rw [IntKind.wrap_i64]; omega
  rw [← hA, ← hB]
  clear hA hB hP
  go_enter Try.func18, Try.ntmps18
  go_wp2
  go_ret
  exact ⟨rfl, keep_alloc _ _⟩
theorem cbe2 (a : Nat) (w : World) (ha : a < 18446744073709551616) : Calls Try.prog 22 #[.int .u64 (a : Int), .int .i64 2] w fun e w' => ∃ v, e = .returned v ∧ Own 5 .u8 256 w' w.heap.size v (be2 a) ∧ Below w.heap.size w w' := by
  have := be_any a 2 w ha (by decide) (by decide)
  rw [leS_2] at this
  exact this
theorem cbe4 (a : Nat) (w : World) (ha : a < 18446744073709551616) : Calls Try.prog 22 #[.int .u64 (a : Int), .int .i64 4] w fun e w' => ∃ v, e = .returned v ∧ Own 5 .u8 256 w' w.heap.size v (be4 a) ∧ Below w.heap.size w w' := by
  have := be_any a 4 w ha (by decide) (by decide)
  rw [leS_4] at this
  exact this
theorem leS_1b (n : Nat) (h : n < 256) : (leS n 1).reverse = [n] := by
  unfold leS
  rw [if_neg (by decide)]
  show (leL n 1).reverse = [n]
  simp [leL]
  omega
theorem cbe1 (a : Nat) (w : World) (ha : a < 256) : Calls Try.prog 22 #[.int .u64 (a : Int), .int .i64 1] w fun e w' => ∃ v, e = .returned v ∧ Own 5 .u8 256 w' w.heap.size v [a] ∧ Below w.heap.size w w' := by
  have := be_any a 1 w (by omega) (by decide) (by decide)
  rw [leS_1b a ha] at this
  exact this
set_option maxHeartbeats 2000000 in
set_option maxRecDepth 100000 in
theorem ktop_1 (P s c : Nat) (w : World) : Calls Try.prog 20 #[.agg #[.int .i64 1, .int .i64 (P : Int), .int .i64 (s : Int), .int .u64 (c : Int)]] w fun e w' => e = .returned (.int .u32 1) ∧ Below w.heap.size w w' := by
  go_enter Try.func20, Try.ntmps20
  go_wp2
  go_ret
  exact ⟨rfl, keep_alloc _ _⟩
set_option maxHeartbeats 2000000 in
set_option maxRecDepth 100000 in
theorem ktop_2 (P s c : Nat) (w : World) : Calls Try.prog 20 #[.agg #[.int .i64 2, .int .i64 (P : Int), .int .i64 (s : Int), .int .u64 (c : Int)]] w fun e w' => e = .returned (.int .u32 3) ∧ Below w.heap.size w w' := by
  go_enter Try.func20, Try.ntmps20
  go_wp2
  go_ret
  exact ⟨rfl, keep_alloc _ _⟩
set_option maxHeartbeats 2000000 in
set_option maxRecDepth 100000 in
theorem ktop_4 (P s c : Nat) (w : World) : Calls Try.prog 20 #[.agg #[.int .i64 4, .int .i64 (P : Int), .int .i64 (s : Int), .int .u64 (c : Int)]] w fun e w' => e = .returned (.int .u32 15) ∧ Below w.heap.size w w' := by
  go_enter Try.func20, Try.ntmps20
  go_wp2
  go_ret
  exact ⟨rfl, keep_alloc _ _⟩
set_option maxHeartbeats 2000000 in
set_option maxRecDepth 100000 in
theorem ktop_8 (P s c : Nat) (w : World) : Calls Try.prog 20 #[.agg #[.int .i64 8, .int .i64 (P : Int), .int .i64 (s : Int), .int .u64 (c : Int)]] w fun e w' => e = .returned (.int .u32 255) ∧ Below w.heap.size w w' := by
  go_enter Try.func20, Try.ntmps20
  go_wp2
  go_ret
  exact ⟨rfl, keep_alloc _ _⟩
theorem ktop_ok {k n m s c P : Nat} (h : Kd k n m s c) (hP : P = n + m) (w : World) : Calls Try.prog 20 #[.agg #[.int .i64 (k : Int), .int .i64 (P : Int), .int .i64 (s : Int), .int .u64 (c : Int)]] w fun e w' => e = .returned (.int .u32 ((2 ^ k - 1 : Nat) : Int)) ∧ Below w.heap.size w w' := by
  cases h
  · exact ktop_1 P 7 1 w
  · exact ktop_2 P 6 2 w
  · exact ktop_4 P 4 3 w
  · exact ktop_8 P 0 4 w
end Go.Proofs.Ytnjiilnkobhibaa
