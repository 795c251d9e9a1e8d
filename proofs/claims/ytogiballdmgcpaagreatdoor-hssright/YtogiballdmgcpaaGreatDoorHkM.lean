/- Trees of trees: plain facts. A key's trees are pairs of a height and a width. -/
import Derived.Test.YtogiballdmgcpaaGreatDoorLmM
import Derived.Test.YtogiballdmgcpaaGreatDoorHEnd
import Derived.Test.YtogiballdmgcpaaGreatDoorHTak32
import Derived.Test.YtogiballdmgcpaaGreatDoorHKi2
import Derived.Test.YtogiballdmgcpaaGreatDoorBase
import Derived.Test.YtogiballdmgcpaaGreatDoorHSl
import Derived.Test.YtogiballdmgcpaaGreatDoorPlan3
import Derived.BigQuiet
namespace Go.Proofs.YtogiballdmgcpaaGreatDoor
open Go.RowKit
set_option linter.unusedVariables false
set_option linter.unusedSimpArgs false

/-- a tree that a key may have -/
def FitG (t : Int × Int) : Prop := FitL t.1 t.2 ∧ t.1 ≤ 10
instance (t : Int × Int) : Decidable (FitG t) := by unfold FitG; infer_instance
def sumH : List (Int × Int) → Int
  | [] => 0
  | t :: ts => t.1 + sumH ts
def FitK (ts : List (Int × Int)) (il sl : Nat) : Prop := 1 ≤ ts.length ∧ ts.length ≤ 8 ∧ (∀ t ∈ ts, FitG t) ∧ sumH ts ≤ 60 ∧ il = 16 ∧ sl = 32
instance (ts : List (Int × Int)) (il sl : Nat) : Decidable (FitK ts il sl) := by unfold FitK; infer_instance
theorem FitG.pos {t : Int × Int} (h : FitG t) : 1 ≤ t.1 ∧ t.1 ≤ 10 := by
  refine ⟨?_, h.2⟩
  have := h.1.1
  unfold lmCode at this
  repeat' split at this
  all_goals omega
theorem sumH_snoc : ∀ (ts : List (Int × Int)) (t : Int × Int), sumH (ts ++ [t]) = sumH ts + t.1
  | [], t => by show t.1 + 0 = 0 + t.1; omega
  | x :: ts, t => by show x.1 + sumH (ts ++ [t]) = x.1 + sumH ts + t.1; rw [sumH_snoc ts t]; omega
theorem sumH_le : ∀ (ts : List (Int × Int)), (∀ t ∈ ts, FitG t) → 0 ≤ sumH ts ∧ sumH ts ≤ 10 * (ts.length : Int)
  | [], _ => by show (0 : Int) ≤ 0 ∧ (0 : Int) ≤ _; simp
  | t :: ts, h => by
    have h1 := sumH_le ts (fun x hx => h x (List.mem_cons_of_mem _ hx))
    have h2 := (h t (by simp)).pos
    show 0 ≤ t.1 + sumH ts ∧ t.1 + sumH ts ≤ _
    rw [List.length_cons]
    omega
/-- the tree at a place -/
def trA (ts : List (Int × Int)) (i : Nat) : Int × Int := ts.getD i (0, 0)
theorem trA_mem {ts : List (Int × Int)} {i : Nat} (h : i < ts.length) : trA ts i ∈ ts := by
  unfold trA
  rw [List.getD_eq_getElem?_getD, List.getElem?_eq_getElem h]
  exact List.getElem_mem h
theorem tr_take {ts : List (Int × Int)} {i : Nat} (h : i < ts.length) : ts.take (i + 1) = ts.take i ++ [trA ts i] := by
  rw [List.take_succ_eq_append_getElem h]
  unfold trA
  rw [List.getD_eq_getElem?_getD, List.getElem?_eq_getElem h]
  rfl
/-- how many texts a key can sign -/
def lvN (ts : List (Int × Int)) : Nat := 2 ^ (sumH ts).toNat
/-- v is a slice of trees -/
def TrS (w : World) (v : Value) (ts : List (Int × Int)) : Prop :=
  ∃ a cap, v = .slice a ts.length cap ∧ ts.length ≤ cap ∧ cap ≤ maxLen ∧ (0 < ts.length → ∃ b off, a = some ⟨b, off, none⟩ ∧ ∀ i, i < ts.length → w.cell? ⟨b, off + i * 2, none⟩ = some (.int .i64 (trA ts i).1) ∧ w.cell? ⟨b, off + i * 2 + 1, none⟩ = some (.int .i64 (trA ts i).2))
theorem TrS.below {w w' : World} {v : Value} {ts : List (Int × Int)} (h : TrS w v ts) (hb : Below w.heap.size w w') : TrS w' v ts := by
  obtain ⟨a, cap, rfl, h1, h2, h3⟩ := h
  refine ⟨a, cap, rfl, h1, h2, fun hl => ?_⟩
  obtain ⟨b, off, rfl, hc⟩ := h3 hl
  refine ⟨b, off, rfl, fun i hi => ?_⟩
  obtain ⟨c1, c2⟩ := hc i hi
  have k1 := World.block_lt_of_cell? w _ c1
  rw [hb.cell (p := ⟨b, off + i * 2, none⟩) k1, hb.cell (p := ⟨b, off + i * 2 + 1, none⟩) k1]
  exact ⟨c1, c2⟩
end Go.Proofs.YtogiballdmgcpaaGreatDoor

/- Trees of trees: the document's Fit and Leaves. -/
namespace Go.Proofs.YtogiballdmgcpaaGreatDoor
open Go.RowKit
set_option linter.unusedVariables false
set_option linter.unusedSimpArgs false

/-- a key's box -/
structure BxK (W : World) (B : Nat) (v0 v1 v2 : Value) : Prop where
  here : W.heap[B]? = some (.cells #[v0, v1, v2] 25 (0, 0))
theorem BxK.lt {W : World} {B : Nat} {v0 v1 v2 : Value} (h : BxK W B v0 v1 v2) : B < W.heap.size := (Array.getElem?_eq_some_iff.1 h.here).1
theorem BxK.c0 {W : World} {B : Nat} {v0 v1 v2 : Value} (h : BxK W B v0 v1 v2) : W.cell? ⟨B, 0, none⟩ = some v0 := by simp [World.cell?, h.here]
theorem BxK.c1 {W : World} {B : Nat} {v0 v1 v2 : Value} (h : BxK W B v0 v1 v2) : W.cell? ⟨B, 1, none⟩ = some v1 := by simp [World.cell?, h.here]
theorem BxK.c2 {W : World} {B : Nat} {v0 v1 v2 : Value} (h : BxK W B v0 v1 v2) : W.cell? ⟨B, 2, none⟩ = some v2 := by simp [World.cell?, h.here]
theorem BxK.below {W W' : World} {B : Nat} {v0 v1 v2 : Value} (h : BxK W B v0 v1 v2) (hb : Below W.heap.size W W') : BxK W' B v0 v1 v2 := ⟨(hb.block _ h.lt).trans h.here⟩
theorem BxK.new (W : World) (v0 v1 v2 : Value) : BxK (W.alloc (.cells #[v0, v1, v2] 25)) W.heap.size v0 v1 v2 := ⟨heap_alloc_new W _⟩
theorem lvN_lt {ts : List (Int × Int)} (h : sumH ts ≤ 60) : lvN ts ≤ 1152921504606846976 := by
  unfold lvN
  exact Nat.le_trans (Nat.pow_le_pow_right (by decide) (show (sumH ts).toNat ≤ 60 by omega)) (by decide)
end Go.Proofs.YtogiballdmgcpaaGreatDoor

/- Texts of the call's own in a slice of the call's own. -/
namespace Go.Proofs.YtogiballdmgcpaaGreatDoor
open Go.RowKit
set_option linter.unusedVariables false
set_option linter.unusedSimpArgs false

theorem own_tidyG {e : TypeId} {k : IntKind} {m : Nat} {w : World} {B : Nat} {v : Value} {l : List Nat} (h : Own e k m w B v l) : Tidy v := by
  rcases h.1.2 with ⟨rfl, _⟩ | ⟨g, cap, cur, rfl, _⟩
  · intro n c e; cases e; exact ⟨rfl, rfl⟩
  · intro n c e; cases e
theorem ownsRow_base {w : World} {B B' n : Nat} {e : TypeId} {v : Value} {xs : List Value} (h : w.ownsRow B e 1 v n xs) (hB : B' ≤ B) : w.ownsRow B' e 1 v n xs := by
  obtain ⟨h1, h2⟩ := h
  refine ⟨h1, ?_⟩
  rcases h2 with h2 | ⟨g, cap, cur, rfl, h3, h4⟩
  · exact .inl h2
  · exact .inr ⟨g, cap, cur, rfl, by omega, h4⟩
end Go.Proofs.YtogiballdmgcpaaGreatDoor

/- Trees of trees: the document's Vector. -/
namespace Go.Proofs.YtogiballdmgcpaaGreatDoor
open Go.RowKit
set_option linter.unusedVariables false
set_option linter.unusedSimpArgs false

/-- a number's leaves -/
def vecF : List (Int × Int) → Nat → List Nat
  | [], _ => []
  | t :: ts, n => n / lvN ts % 2 ^ t.1.toNat :: vecF ts n
theorem vecF_len : ∀ (ts : List (Int × Int)) (n : Nat), (vecF ts n).length = ts.length
  | [], _ => rfl
  | t :: ts, n => by show (vecF ts n).length + 1 = _; rw [vecF_len ts n]; rfl
theorem tr_drop {ts : List (Int × Int)} {i : Nat} (h : i < ts.length) : ts.drop i = trA ts i :: ts.drop (i + 1) := by
  rw [List.drop_eq_getElem_cons h]
  unfold trA
  rw [List.getD_eq_getElem?_getD, List.getElem?_eq_getElem h]
  rfl
theorem lvN_pos (ts : List (Int × Int)) : 0 < lvN ts := Nat.pow_pos (by decide)
theorem sumH_drop {ts : List (Int × Int)} (h : ∀ t ∈ ts, FitG t) (i : Nat) : 0 ≤ sumH (ts.drop i) := (sumH_le (ts.drop i) (fun t ht => h t (List.mem_of_mem_drop ht))).1
/-- what is wrong with a number -/
def vcE (ts : List (Int × Int)) (il sl n : Nat) : Int := if ¬ FitK ts il sl then 10 else if lvN ts ≤ n then 13 else 0
theorem made_u32 (n : Nat) : (madeCells (Value.int .u32 0).cells (n * 1)).toList = vals .u32 (List.replicate n 0) := by
  rw [Nat.mul_one]
  show (madeCells #[Value.int .u32 0] n).toList = _
  rw [toList_madeCells_one]
  simp [vals]
theorem vecF_under {ts : List (Int × Int)} (h : ∀ t ∈ ts, FitG t) (n : Nat) : Under 4294967296 (vecF ts n) := by
  induction ts with
  | nil => intro x hx; cases hx
  | cons t ts ih =>
    intro x hx
    rcases List.mem_cons.1 hx with rfl | hx
    · have hp := (h t (by simp)).pos
      refine Nat.lt_of_lt_of_le (Nat.mod_lt _ (Nat.pow_pos (by decide))) (Nat.le_trans (Nat.pow_le_pow_right (by decide) (show t.1.toNat ≤ 10 by omega)) (by decide))
    · exact ih (fun t ht => h t (List.mem_cons_of_mem _ ht)) x hx
end Go.Proofs.YtogiballdmgcpaaGreatDoor

/- Leaves that sign once, the program's own: kindOf, and a kind's code, size, top. -/
namespace Go.Proofs.YtogiballdmgcpaaGreatDoor
open Go.RowKit
set_option linter.unusedVariables false
set_option linter.unusedSimpArgs false

set_option maxHeartbeats 2000000 in
set_option maxRecDepth 100000 in
theorem ckind_no (x : Int) (w : World) (h : NoK x) : Calls Tryz.prog 115 #[.int .i64 x] w fun e w' => e = .returned (.tuple #[.agg #[.int .i64 0, .int .i64 0, .int .i64 0, .int .u64 0], .int .i64 9]) ∧ Below w.heap.size w w' := by
  obtain ⟨h1, h2, h4, h8⟩ := h
  go_enter Tryz.func115, Tryz.ntmps115
  go_wp2
  refine bodyPost_ret (v := .tuple #[.agg #[.int .i64 0, .int .i64 0, .int .i64 0, .int .u64 0], .int .i64 9]) (by simp [results, Tryz.results115, go_sem]) rfl ⟨rfl, ?_⟩
  exact keep_alloc _ _
set_option maxHeartbeats 2000000 in
set_option maxRecDepth 100000 in
theorem ckind_1 (w : World) : Calls Tryz.prog 115 #[.int .i64 1] w fun e w' => e = .returned (.tuple #[.agg #[.int .i64 1, .int .i64 265, .int .i64 7, .int .u64 1], .int .i64 0]) ∧ Below w.heap.size w w' := by
  go_enter Tryz.func115, Tryz.ntmps115
  go_wp2
  refine bodyPost_ret (v := .tuple #[.agg #[.int .i64 1, .int .i64 265, .int .i64 7, .int .u64 1], .int .i64 0]) (by simp [results, Tryz.results115, go_sem]) rfl ⟨rfl, ?_⟩
  exact keep_alloc _ _
set_option maxHeartbeats 2000000 in
set_option maxRecDepth 100000 in
theorem ckind_2 (w : World) : Calls Tryz.prog 115 #[.int .i64 2] w fun e w' => e = .returned (.tuple #[.agg #[.int .i64 2, .int .i64 133, .int .i64 6, .int .u64 2], .int .i64 0]) ∧ Below w.heap.size w w' := by
  go_enter Tryz.func115, Tryz.ntmps115
  go_wp2
  refine bodyPost_ret (v := .tuple #[.agg #[.int .i64 2, .int .i64 133, .int .i64 6, .int .u64 2], .int .i64 0]) (by simp [results, Tryz.results115, go_sem]) rfl ⟨rfl, ?_⟩
  exact keep_alloc _ _
set_option maxHeartbeats 2000000 in
set_option maxRecDepth 100000 in
theorem ckind_4 (w : World) : Calls Tryz.prog 115 #[.int .i64 4] w fun e w' => e = .returned (.tuple #[.agg #[.int .i64 4, .int .i64 67, .int .i64 4, .int .u64 3], .int .i64 0]) ∧ Below w.heap.size w w' := by
  go_enter Tryz.func115, Tryz.ntmps115
  go_wp2
  refine bodyPost_ret (v := .tuple #[.agg #[.int .i64 4, .int .i64 67, .int .i64 4, .int .u64 3], .int .i64 0]) (by simp [results, Tryz.results115, go_sem]) rfl ⟨rfl, ?_⟩
  exact keep_alloc _ _
set_option maxHeartbeats 2000000 in
set_option maxRecDepth 100000 in
theorem ckind_8 (w : World) : Calls Tryz.prog 115 #[.int .i64 8] w fun e w' => e = .returned (.tuple #[.agg #[.int .i64 8, .int .i64 34, .int .i64 0, .int .u64 4], .int .i64 0]) ∧ Below w.heap.size w w' := by
  go_enter Tryz.func115, Tryz.ntmps115
  go_wp2
  refine bodyPost_ret (v := .tuple #[.agg #[.int .i64 8, .int .i64 34, .int .i64 0, .int .u64 4], .int .i64 0]) (by simp [results, Tryz.results115, go_sem]) rfl ⟨rfl, ?_⟩
  exact keep_alloc _ _
theorem ckind_ok {k n m s c P : Nat} (h : Kd k n m s c) (hP : P = n + m) (w : World) : Calls Tryz.prog 115 #[.int .i64 (k : Int)] w fun e w' => e = .returned (.tuple #[.agg #[.int .i64 (k : Int), .int .i64 (P : Int), .int .i64 (s : Int), .int .u64 (c : Int)], .int .i64 0]) ∧ Below w.heap.size w w' := by
  subst hP
  cases h
  · exact ckind_1 w
  · exact ckind_2 w
  · exact ckind_4 w
  · exact ckind_8 w
set_option maxHeartbeats 2000000 in
set_option maxRecDepth 100000 in
theorem ksize_any (k P s c : Nat) (w : World) (hP : P ≤ 1000) : Calls Tryz.prog 92 #[.agg #[.int .i64 (k : Int), .int .i64 (P : Int), .int .i64 (s : Int), .int .u64 (c : Int)]] w fun e w' => e = .returned (.int .i64 ((36 + 32 * P : Nat) : Int)) ∧ Below w.heap.size w w' := by
  obtain ⟨A, hA⟩ : ∃ A : Nat, A = 32 * P := ⟨_, rfl⟩
  obtain ⟨B, hB⟩ : ∃ B : Nat, B = 36 + A := ⟨_, rfl⟩
  have e_A : (P : Int) * 32 = (A : Int) := by omega
  have s_A : IntKind.i64.wrap (A : Int) = (A : Int) := by rw [IntKind.wrap_i64]; omega
  have e_B : (36 : Int) + (A : Int) = (B : Int) := by omega
  have s_B : IntKind.i64.wrap (B : Int) = (B : Int) := by rw [IntKind.wrap_i64]; omega
  rw [← hA, ← hB]
  clear hA hB hP
  go_enter Tryz.func92, Tryz.ntmps92
  go_wp2
  go_ret
  exact ⟨rfl, keep_alloc _ _⟩
theorem cbe2 (a : Nat) (w : World) (ha : a < 18446744073709551616) : Calls Tryz.prog 21 #[.int .u64 (a : Int), .int .i64 2] w fun e w' => ∃ v, e = .returned v ∧ Own 5 .u8 256 w' w.heap.size v (be2 a) ∧ Below w.heap.size w w' := by
  have := be_any a 2 w ha (by decide) (by decide)
  rw [leS_2] at this
  exact this
theorem cbe4 (a : Nat) (w : World) (ha : a < 18446744073709551616) : Calls Tryz.prog 21 #[.int .u64 (a : Int), .int .i64 4] w fun e w' => ∃ v, e = .returned v ∧ Own 5 .u8 256 w' w.heap.size v (be4 a) ∧ Below w.heap.size w w' := by
  have := be_any a 4 w ha (by decide) (by decide)
  rw [leS_4] at this
  exact this
theorem leS_1b (n : Nat) (h : n < 256) : (leS n 1).reverse = [n] := by
  unfold leS
  rw [if_neg (by decide)]
  show (leL n 1).reverse = [n]
  simp [leL]
  omega
theorem cbe1 (a : Nat) (w : World) (ha : a < 256) : Calls Tryz.prog 21 #[.int .u64 (a : Int), .int .i64 1] w fun e w' => ∃ v, e = .returned v ∧ Own 5 .u8 256 w' w.heap.size v [a] ∧ Below w.heap.size w w' := by
  have := be_any a 1 w (by omega) (by decide) (by decide)
  rw [leS_1b a ha] at this
  exact this
set_option maxHeartbeats 2000000 in
set_option maxRecDepth 100000 in
theorem kcode_any (k P s c : Nat) (w : World) (hc : c < 18446744073709551616) : Calls Tryz.prog 93 #[.agg #[.int .i64 (k : Int), .int .i64 (P : Int), .int .i64 (s : Int), .int .u64 (c : Int)]] w fun e w' => ∃ v, e = .returned v ∧ Own 5 .u8 256 w' w.heap.size v (be4 c) ∧ Below w.heap.size w w' := by
  have h4 := fun y => cbe4 c y hc
  go_enter Tryz.func93, Tryz.ntmps93
  go_wp2_with (first
    | (go_at_call 21; refine (h4 _).mono ?_; rintro e w1 ⟨v1, rfl, o1, hb1⟩)
    | fail)
  go_ret
  exact ⟨_, rfl, o1.mono (keep_alloc _ _).size, keep_trans (keep_alloc _ _) hb1⟩
set_option maxHeartbeats 2000000 in
set_option maxRecDepth 100000 in
theorem ktop_1 (P s c : Nat) (w : World) : Calls Tryz.prog 97 #[.agg #[.int .i64 1, .int .i64 (P : Int), .int .i64 (s : Int), .int .u64 (c : Int)]] w fun e w' => e = .returned (.int .u32 1) ∧ Below w.heap.size w w' := by
  go_enter Tryz.func97, Tryz.ntmps97
  go_wp2
  go_ret
  exact ⟨rfl, keep_alloc _ _⟩
set_option maxHeartbeats 2000000 in
set_option maxRecDepth 100000 in
theorem ktop_2 (P s c : Nat) (w : World) : Calls Tryz.prog 97 #[.agg #[.int .i64 2, .int .i64 (P : Int), .int .i64 (s : Int), .int .u64 (c : Int)]] w fun e w' => e = .returned (.int .u32 3) ∧ Below w.heap.size w w' := by
  go_enter Tryz.func97, Tryz.ntmps97
  go_wp2
  go_ret
  exact ⟨rfl, keep_alloc _ _⟩
set_option maxHeartbeats 2000000 in
set_option maxRecDepth 100000 in
theorem ktop_4 (P s c : Nat) (w : World) : Calls Tryz.prog 97 #[.agg #[.int .i64 4, .int .i64 (P : Int), .int .i64 (s : Int), .int .u64 (c : Int)]] w fun e w' => e = .returned (.int .u32 15) ∧ Below w.heap.size w w' := by
  go_enter Tryz.func97, Tryz.ntmps97
  go_wp2
  go_ret
  exact ⟨rfl, keep_alloc _ _⟩
set_option maxHeartbeats 2000000 in
set_option maxRecDepth 100000 in
theorem ktop_8 (P s c : Nat) (w : World) : Calls Tryz.prog 97 #[.agg #[.int .i64 8, .int .i64 (P : Int), .int .i64 (s : Int), .int .u64 (c : Int)]] w fun e w' => e = .returned (.int .u32 255) ∧ Below w.heap.size w w' := by
  go_enter Tryz.func97, Tryz.ntmps97
  go_wp2
  go_ret
  exact ⟨rfl, keep_alloc _ _⟩
theorem ktop_ok {k n m s c P : Nat} (h : Kd k n m s c) (hP : P = n + m) (w : World) : Calls Tryz.prog 97 #[.agg #[.int .i64 (k : Int), .int .i64 (P : Int), .int .i64 (s : Int), .int .u64 (c : Int)]] w fun e w' => e = .returned (.int .u32 ((2 ^ k - 1 : Nat) : Int)) ∧ Below w.heap.size w w' := by
  cases h
  · exact ktop_1 P 7 1 w
  · exact ktop_2 P 6 2 w
  · exact ktop_4 P 4 3 w
  · exact ktop_8 P 0 4 w
end Go.Proofs.YtogiballdmgcpaaGreatDoor

/- Leaves that sign once: the document's Digits. -/
namespace Go.Proofs.YtogiballdmgcpaaGreatDoor
open Go.RowKit
set_option linter.unusedVariables false
set_option linter.unusedSimpArgs false

theorem digS_natL (l : List Nat) (w c : Nat) (h1 : 1 ≤ w) (h2 : w ≤ 24) (h3 : c * w ≤ 8 * l.length) : digS l (w : Int) (c : Int) = digL l w c := by
  unfold digS
  rw [if_pos (okB_mk h1 h2 h3)]
  rfl
theorem lack_take {m i : Nat} {l : List Nat} (h : i < l.length) : lackL m (l.take (i + 1)) = lackL m (l.take i) + (m - el l i) := by
  rw [List.take_succ_eq_append_getElem h, lack_snoc, el_at h]
/-- where the sum stands -/
def SmL (w3 : World) (m : Nat) (l : List Nat) (vs vi : Value) (wr : World) : Prop := ∃ i : Nat, i ≤ l.length ∧ vi = .int .i64 (i : Int) ∧ vs = .int .u64 ((lackL m (l.take i) : Nat) : Int) ∧ Below w3.heap.size w3 wr
theorem vint64 {a b : Int} (h : a = b) : Value.int .u64 a = .int .u64 b := by rw [h]
end Go.Proofs.YtogiballdmgcpaaGreatDoor
