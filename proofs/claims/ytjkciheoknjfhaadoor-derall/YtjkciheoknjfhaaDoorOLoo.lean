/- Contracts of oid.numbers (an iterator) and oid.loose (a loop over it). -/
import Derived.RangeFuncBox
import Derived.RangeFuncNested
import Derived.RangeFuncBound
import Derived.RangeFuncCalls
import Derived.RangeFuncLeaves
import Derived.Shelf.Abstract
import Derived.OwnWalkIn
import Derived.TacticsInMore
import Derived.LoopNIn
import Derived.LoopIn
import Derived.Maps.AppendAt
import Derived.Test.YtjkciheoknjfhaaDoorOPar
namespace Go.Proofs.YtjkciheoknjfhaaDoor
open Go.RowKit Go.Shelf
set_option linter.unusedVariables false
attribute [local go_sem] Oper.semAt_some

/-- numbers of 32 bits -/
abbrev U32 := { x : Nat // x < 4294967296 }
def numsU (n : Nat) : List Nat → List U32
  | [] => []
  | x :: r => if x < 128 then ⟨(n * 128 + x % 128) % 4294967296, by omega⟩ :: numsU 0 r else numsU ((n * 128 + x % 128) % 4294967296) r
def plainU (l : List U32) : List Nat := l.map (·.1)
theorem numsU_plain (n : Nat) (b : List Nat) : plainU (numsU n b) = nums n b := by
  induction b generalizing n with
  | nil => rfl
  | cons x r ih =>
    unfold numsU nums
    split
    · show _ :: plainU _ = _; rw [ih]
    · exact ih _
theorem numsU_low {n x : Nat} {r : List Nat} (h : x < 128) (hN : (n * 128 + x % 128) % 4294967296 < 4294967296) : numsU n (x :: r) = ⟨(n * 128 + x % 128) % 4294967296, hN⟩ :: numsU 0 r := by
  conv => lhs; unfold numsU
  rw [if_pos h]
theorem numsU_high {n x : Nat} {r : List Nat} (h : ¬ x < 128) : numsU n (x :: r) = numsU ((n * 128 + x % 128) % 4294967296) r := by
  conv => lhs; unfold numsU
  rw [if_neg h]

theorem or_step (n x : Nat) (hx : x < 256) : bits .or .u32 ((n : Int) * 128 % 4294967296) ((x : Int) % 128) = (((n * 128 + x % 128) % 4294967296 : Nat) : Int) := by
  have e : (n : Int) * 128 % 4294967296 = ((n * 128 % 4294967296 : Nat) : Int) := by omega
  rw [e, show ((x : Int) % 128) = ((x % 128 : Nat) : Int) from by simp, u32_or_nat _ _ (by omega) (by omega), nat_join 7 _ _ (by omega) (by omega)]
  congr 1
  omega

set_option maxRecDepth 100000 in
set_option maxHeartbeats 2000000 in
theorem numbers1_in (F : Fence) (n : Nat) (h38 : F.fn 87) (hro : F.round = none) (hn : 1 ≤ n) (l Bn : Nat) (ad : Option Addr) (cap : Nat) (b : List Nat) (w0 : World) (hr : Row .u8 256 w0 (.slice ad b.length cap) b) (J Jx : List U32 → World → Prop)
    (hY : ∀ pre (x : U32) W, J pre W → pre.length < (numsU 0 b).length → YieldAt F (n - 1) Tryd.prog l #[.int .u32 (x.1 : Int)] W fun e W' =>
      (e = .returned (.bool true) ∧ J (pre ++ [x]) W' ∧ Below w0.heap.size W W') ∨ (e = .returned (.bool false) ∧ Jx (pre ++ [x]) W'))
    (W : World) (hW : Below w0.heap.size w0 W) (hBn : W.cell? ⟨Bn, 0, none⟩ = some (.slice ad b.length cap)) (h0 : J [] W) :
    CallsIn F n Tryd.prog 87 #[.func (.yield l) #[] #[], .pointer (some ⟨Bn, 0, none⟩)] W fun e W' => (∃ v, e = .returned v) ∧
      ((∃ ys, ys = numsU 0 b ∧ J ys W') ∨ (∃ pre, pre <+: numsU 0 b ∧ Jx pre W')) := by
  have hr' := hr
  obtain ⟨_, _, hee, hb1, hb2, hb3, hb4⟩ := hr
  simp only [Value.slice.injEq, true_and] at hee
  obtain ⟨rfl, rfl⟩ := hee
  unfold maxLen at hb2
  refine callsIn_of_wp Tryd.func87 rfl h38 ?_ hro
  simp only [Tryd.ntmps87, List.size_toArray, List.length_cons, List.length_nil, Nat.reduceAdd, Nat.reduceSub, Array.replicate_succ, Array.replicate_zero, List.push_toArray, List.append_toArray, List.nil_append, List.cons_append]
  gi_wp2
  gi_loopw [3, 8] (fun vn vi wr => ∃ (k m : Nat) (pre : List U32), k ≤ b.length ∧ m < 4294967296 ∧ vi = .int .i64 k ∧ vn = .int .u32 m ∧ Hid (numsU 0 b = pre ++ numsU m (b.drop k)) ∧ J pre wr ∧ Below w0.heap.size w0 wr)
    (fun _ i _ => b.length - (intOf i).toNat)
  case atStart => exact ⟨0, 0, [], Nat.zero_le _, by decide, rfl, rfl, hide (by simp), h0, hW⟩
  case round =>
    obtain ⟨k, m, pre, hk, hm, rfl, rfl, HP, hJs, hbr⟩ := hrel
    by_cases hlt : k < b.length
    · obtain ⟨_, _, hee, _, _, hcc, _⟩ := hr'.below hbr
      simp only [Value.slice.injEq, true_and] at hee
      obtain ⟨rfl, rfl⟩ := hee
      obtain ⟨bb, off, rfl, hcell⟩ := hcc (by omega)
      have ck := hcell k hlt
      clear hcell hcc hb3
      have hx := el_lt hb4 (by decide) k
      have HDR := hide (drop_el hlt)
      generalize el b k = x at *
      have HOR := hide (or_step m x hx)
      by_cases hlow : x < 128
      · have gl : ¬ (128 : Int) ≤ (x : Int) := by omega
        have hN : (m * 128 + x % 128) % 4294967296 < 4294967296 := by omega
        have hP2 : numsU 0 b = pre ++ (⟨(m * 128 + x % 128) % 4294967296, hN⟩ :: numsU 0 (b.drop (k + 1))) := by rw [HP.out, HDR.out, numsU_low hlow hN]
        generalize (m * 128 + x % 128) % 4294967296 = N at *
        obtain ⟨fn, tmps, assign, body, hy, hR⟩ := hY pre ⟨N, hN⟩ wr hJs (by rw [hP2]; simp)
        have HP2 := hide hP2
        clear hP2
        gi_wp2
        rw [HOR.out, hy]
        gi_wp2
        refine hR.mono ?_
        rintro e W3 (⟨rfl, hJ3, hk3⟩ | ⟨rfl, hJx3⟩)
        · gi_wp2
          go_roundw
          case rel => exact ⟨k + 1, 0, pre ++ [⟨N, hN⟩], by omega, by decide, by go_num, rfl, hide (by rw [HP2.out]; simp), hJ3, hbr.trans hk3⟩
          case measure => simp [intOf]; omega
        · gi_wp2
          refine bodyPost_ret (results_none rfl _ _ _) rfl ?_
          exact ⟨⟨_, rfl⟩, .inr ⟨pre ++ [⟨N, hN⟩], ⟨numsU 0 (b.drop (k + 1)), by rw [HP2.out]; simp⟩, hJx3⟩⟩
      · have gl : (128 : Int) ≤ (x : Int) := by omega
        have hN : (m * 128 + x % 128) % 4294967296 < 4294967296 := by omega
        have hP2 : numsU 0 b = pre ++ numsU ((m * 128 + x % 128) % 4294967296) (b.drop (k + 1)) := by rw [HP.out, HDR.out, numsU_high hlow]
        generalize (m * 128 + x % 128) % 4294967296 = N at *
        have HP2 := hide hP2
        clear hP2
        gi_wp2
        rw [HOR.out]
        go_roundw
        case rel => exact ⟨k + 1, N, pre, by omega, hN, by go_num, rfl, HP2, hJs, hbr⟩
        case measure => simp [intOf]; omega
    · have hP := HP.out
      rw [List.drop_of_length_le (by omega)] at hP
      have HP2 : Hid (numsU 0 b = pre) := hide (by rw [hP]; simp [numsU])
      clear hP
      gi_wp2
      go_end0
      exact ⟨⟨_, rfl⟩, .inl ⟨pre, HP2.out.symm, hJs⟩⟩

set_option maxHeartbeats 1000000 in
theorem numbers_in (F : Fence) (n : Nat) (h32 : F.fn 82) (hro : F.round = none) (v : Value) (l : List Nat) (w : World) (hv : Row .u8 256 w v l) :
    CallsIn F n Tryd.prog 82 #[v] w fun e w' => e = .returned (.func (.func 87) #[] #[.pointer (some ⟨w.heap.size, 0, none⟩)]) ∧ w' = w.alloc (.cells #[v] 22) := by
  obtain ⟨a, cap, rfl, _⟩ := hv
  refine callsIn_of_wp Tryd.func82 rfl h32 ?_ hro
  simp only [Tryd.ntmps82, List.size_toArray, List.length_cons, List.length_nil, Nat.reduceAdd, Nat.reduceSub, Array.replicate_succ, Array.replicate_zero, List.push_toArray, List.append_toArray, List.nil_append, List.cons_append]
  gi_wp2
  go_ret
  exact ⟨rfl, rfl⟩

theorem numbers_stops (F : Fence) (n : Nat) (h38 : F.fn 87) (hro : F.round = none) (hn : 1 ≤ n) (Bn : Nat) (ad : Option Addr) (cap : Nat) (b : List Nat) (w0 w : World) (hr : Row .u8 256 w0 (.slice ad b.length cap) b)
    (hBn : Bn < w.heap.size) (hw : Below w0.heap.size w0 w) (hc : w.cell? ⟨Bn, 0, none⟩ = some (.slice ad b.length cap)) :
    SeqStopsK F n Tryd.prog 87 #[.pointer (some ⟨Bn, 0, none⟩)] (fun x : U32 => #[Value.int .u32 (x.1 : Int)]) (Below w0.heap.size) (fun ys => ys = numsU 0 b) (fun pre => pre <+: numsU 0 b) (numsU 0 b).length w :=
  fun l J Jx W hW _ _ hY h0 =>
    numbers1_in F n h38 hro hn l Bn ad cap b w0 hr J Jx hY W (hw.trans (hW.mono hw.size)) ((hW.cell (p := ⟨Bn, 0, none⟩) hBn).trans hc) h0

/-- what the loop has made of the numbers that have come -/
def looseP (pre : List U32) : List Nat := looseN (plainU pre)
theorem looseP_nil : looseP [] = [] := rfl
theorem looseP_first (x : U32) : looseP [x] = fst2 x.1 := by simp [looseP, looseN, plainU, expand]
theorem plainU_len (pre : List U32) : (plainU pre).length = pre.length := by simp [plainU]
theorem looseP_len (pre : List U32) : (looseP pre).length ≤ 21 := by
  unfold looseP looseN
  have := expand_len ((plainU pre).take 20)
  simp at this ⊢
  omega
theorem looseP_zero {pre : List U32} (h : (looseP pre).length = 0) : pre = [] := by
  have h := (expand_nil_iff ((plainU pre).take 20)).1 h
  have := congrArg List.length h
  simp [plainU_len] at this
  exact this
theorem looseP_full {pre : List U32} (h : 20 < (looseP pre).length) : 20 ≤ pre.length := by
  unfold looseP looseN at h
  have := expand_len ((plainU pre).take 20)
  simp [plainU_len] at this
  omega
theorem looseP_snoc_full {pre : List U32} (h : 20 < (looseP pre).length) (x : U32) : looseP (pre ++ [x]) = looseP pre := by
  have h := looseP_full h
  unfold looseP looseN plainU
  rw [List.map_append, List.take_append_of_le_length (by simp; exact h)]
theorem looseP_snoc {pre : List U32} (h0 : pre ≠ []) (h : ¬ 20 < (looseP pre).length) (x : U32) : looseP (pre ++ [x]) = looseP pre ++ [x.1] := by
  have hl : pre.length < 20 := by
    rcases Nat.lt_or_ge pre.length 20 with h1 | h1
    · exact h1
    · exfalso; apply h
      unfold looseP looseN
      match pre, h0, h1 with
      | p :: r, _, h1 => simp [plainU, expand, fst2] at h1 ⊢; omega
  unfold looseP looseN plainU
  rw [List.map_append, List.take_of_length_le (by simp; omega), List.take_of_length_le (by simp; omega), List.map_cons, List.map_nil, expand_snoc (fun h => h0 (List.map_eq_nil_iff.1 h))]
theorem looseP_under (pre : List U32) : Under 4294967296 (looseP pre) := by
  apply expand_under
  intro x hx
  obtain ⟨y, _, rfl⟩ := List.mem_map.1 (List.mem_of_mem_take hx)
  exact y.2
theorem looseP_prefix {pre xs : List U32} (h : pre <+: xs) (hf : 20 < (looseP pre).length) : looseP xs = looseP pre := by
  obtain ⟨t, rfl⟩ := h
  have h := looseP_full hf
  unfold looseP looseN plainU
  rw [List.map_append, List.take_append_of_le_length (by simp; exact h)]
theorem looseP_all (b : List Nat) : looseP (numsU 0 b) = looseS b := by unfold looseP looseS; rw [numsU_plain]
end Go.Proofs.YtjkciheoknjfhaaDoor
