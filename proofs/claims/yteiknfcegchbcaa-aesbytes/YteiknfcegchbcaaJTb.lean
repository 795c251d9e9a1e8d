/- The code's tables: spread, powers, boxes, inverse, Box. -/
import Derived.Test.YteiknfcegchbcaaJDb
import Derived.Test.YteiknfcegchbcaaABox
namespace Go.Proofs.Yteiknfcegchbcaa
open Go.RowKit
set_option linter.unusedVariables false
set_option linter.unusedSimpArgs false

/-- the powers of x + 1 -/
def powT : List Nat := [1, 3, 5, 15, 17, 51, 85, 255, 26, 46, 114, 150, 161, 248, 19, 53, 95, 225, 56, 72, 216, 115, 149, 164, 247, 2, 6, 10, 30, 34, 102, 170] ++ [229, 52, 92, 228, 55, 89, 235, 38, 106, 190, 217, 112, 144, 171, 230, 49, 83, 245, 4, 12, 20, 60, 68, 204, 79, 209, 104, 184, 211, 110, 178, 205] ++ [76, 212, 103, 169, 224, 59, 77, 215, 98, 166, 241, 8, 24, 40, 120, 136, 131, 158, 185, 208, 107, 189, 220, 127, 129, 152, 179, 206, 73, 219, 118, 154] ++ [181, 196, 87, 249, 16, 48, 80, 240, 11, 29, 39, 105, 187, 214, 97, 163, 254, 25, 43, 125, 135, 146, 173, 236, 47, 113, 147, 174, 233, 32, 96, 160] ++ [251, 22, 58, 78, 210, 109, 183, 194, 93, 231, 50, 86, 250, 21, 63, 65, 195, 94, 226, 61, 71, 201, 64, 192, 91, 237, 44, 116, 156, 191, 218, 117] ++ [159, 186, 213, 100, 172, 239, 42, 126, 130, 157, 188, 223, 122, 142, 137, 128, 155, 182, 193, 88, 232, 35, 101, 175, 234, 37, 111, 177, 200, 67, 197, 84] ++ [252, 31, 33, 99, 165, 244, 7, 9, 27, 45, 119, 153, 176, 203, 70, 202, 69, 207, 74, 222, 121, 139, 134, 145, 168, 227, 62, 66, 198, 81, 243, 14] ++ [18, 54, 90, 238, 41, 123, 141, 140, 143, 138, 133, 148, 167, 242, 13, 23, 57, 75, 221, 124, 132, 151, 162, 253, 28, 36, 108, 180, 199, 82, 246, 1]
def pwN (i : Nat) : Nat := if i < 256 then el powT i else 3
theorem powT_len : powT.length = 256 := by kernel_rfl
theorem pw_lt (i : Nat) : pwN i < 256 := by
  unfold pwN
  split
  · exact el_lt (dec_under (by kernel_rfl)) (by decide) i
  · decide
theorem pw_next {i : Nat} (h : i < 256) : pwN (i + 1) = pwN i ^^^ xt (pwN i) := by
  have : ((List.range 256).all fun i => pwN (i + 1) == pwN i ^^^ xt (pwN i)) = true := by kernel_rfl
  exact eq_of_beq (all256 this i h)
theorem pw_all : upd pwN (zA 256) 256 = powT := by
  refine ext_el (by rw [upd_len, zA_len, powT_len]) fun i hi => ?_
  rw [upd_len, zA_len] at hi
  rw [upd_el _ _ _ (by rw [zA_len]; exact Nat.le_refl _), if_pos hi]
  unfold pwN
  rw [if_pos hi]
theorem pw_el {i : Nat} (h : i < 256) : el powT i = pwN i := by unfold pwN; rw [if_pos h]
/-- a byte spread -/
def spB (c : Nat) : Nat := boxS 5 c 0 99
theorem spB_lt {c : Nat} (h : c < 256) : spB c < 256 := by
  have : ((List.range 256).all fun c => decide (spB c < 256)) = true := by kernel_rfl
  exact of_decide_eq_true (all256 this c h)
def wide (c : Int) : Int := bits .xor .u32 (bits .xor .u32 (bits .xor .u32 (bits .xor .u32 c (c * 2)) (c * 4)) (c * 8)) (c * 16)
theorem spread_int (c : Nat) (h : c < 256) : IntKind.u8.wrap (bits .xor .u32 (bits .xor .u32 (wide (c : Int)) (wide (c : Int) / 256)) 99) = ((spB c : Nat) : Int) := by
  have : ((List.range 256).all fun c => IntKind.u8.wrap (bits .xor .u32 (bits .xor .u32 (wide (c : Int)) (wide (c : Int) / 256)) 99) == ((spB c : Nat) : Int)) = true := by kernel_rfl
  exact eq_of_beq (all256 this c h)
set_option maxHeartbeats 2000000 in
set_option maxRecDepth 100000 in
theorem spread_any (c : Nat) (h : c < 256) (w : World) : Calls Try.prog 58 #[.int .u8 (c : Int)] w fun e w' => e = .returned (.int .u8 (spB c : Nat)) ∧ w' = w := by
  have HD := hide (spread_int c h)
  unfold wide at HD
  go_enter Try.func58, Try.ntmps58
  go_wp2
  go_ret
  exact ⟨ret_int HD.out, rfl⟩
/-- where the loop stands -/
def PwL (w : World) (vp vi : Value) (wr : World) : Prop := ∃ i : Nat, i ≤ 256 ∧ vp = .int .u8 (pwN i : Nat) ∧ vi = .int .i64 (i : Int) ∧ Lies .u8 47 wr w.heap.size (zA 256) ∧ Lies .u8 47 wr (w.heap.size + 1) (upd pwN (zA 256) i) ∧ Below w.heap.size w wr
set_option maxHeartbeats 4000000 in
set_option maxRecDepth 100000 in
theorem powers_any (w : World) : Calls Try.prog 59 #[] w fun e w' => e = .returned (.agg (arr .u8 powT)) ∧ Below w.heap.size w w' := by
  have hz := zero256
  have L0 := (Lies.new .u8 47 w (zA 256)).alloc (.cells (arr .u8 (zA 256)) 47)
  have L1 := Lies.new .u8 47 (w.alloc (.cells (arr .u8 (zA 256)) 47)) (zA 256)
  have hb := keep_trans (keep_alloc w (.cells (arr .u8 (zA 256)) 47)) (keep_alloc _ (.cells (arr .u8 (zA 256)) 47))
  simp only [World.size_alloc, Nat.add_assoc, Nat.reduceAdd] at L1
  go_enter Try.func59, Try.ntmps59
  go_wp2
  generalize (w.alloc (.cells (arr .u8 (zA 256)) 47)).alloc (.cells (arr .u8 (zA 256)) 47) = x1 at *
  clear hz
  go_loopw [2, 4] (fun vp vi wr => PwL w vp vi wr) (fun _ vi _ => 256 - (intOf vi).toNat)
  case atStart => exact ⟨0, by decide, rfl, rfl, L0, L1, hb⟩
  case round =>
    obtain ⟨i, hi, rfl, rfl, h0, h1, hbr⟩ := hrel
    clear L0 L1 hb
    by_cases hlt : i < 256
    · have hli : (i : Int) < 256 := by omega
      have hp := pw_lt i
      have hnx := pw_next hlt
      have ell : (upd pwN (zA 256) i).length = 256 := by rw [upd_len, zA_len]
      have hst : Lies .u8 47 (wr.setCell ⟨w.heap.size + 1, i, none⟩ (.int .u8 (pwN i : Nat))) (w.heap.size + 1) (upd pwN (zA 256) (i + 1)) := h1.set i (pwN i)
      have a1 := h1.cell (i := i) (by rw [ell]; exact hlt)
      have a2 := h1.frozen i
      have HS := hide hst
      have HL := hide ell
      clear hst ell
      have hdb := fun y => dbl_any (pwN i) (by omega) y
      rw [dbl_byte hp] at hdb
      generalize pwN i = p at *
      have xl := xt_lt hp
      generalize xt p = q at *
      have s_q : IntKind.u8.wrap (q : Int) = (q : Int) := by rw [IntKind.wrap_u8]; omega
      have m_q : (q : Int) % 256 = (q : Int) := by omega
      have fx := u8_xor_nat p q hp xl
      have HN := hide hnx
      clear hnx
      go_wp2_with fail
      refine (hdb _).mono ?_
      rintro e y ⟨rfl, hy⟩
      obtain rfl := hy.symm
      go_wp2
      have bA : But (w.heap.size + 1) wr (wr.setCell ⟨w.heap.size + 1, i, none⟩ (.int .u8 (p : Int))) := (But.refl _ _).setCell i _
      exact ⟨⟨i + 1, by omega, by rw [HN.out], by go_num, h0.but bA (by omega), HS.out, hbr.trans (bA.below (by omega) hbr.size)⟩, by simp [intOf]; omega⟩
    · obtain rfl : i = 256 := by omega
      rw [pw_all] at h1
      have v1 := lies_rangeA h1
      go_wp2_with (first
        | (refine wpList_load_mid rfl 47 _ (by rfl) (w.heap.size + 1) 0 (by rfl) (vals .u8 powT) (.array 256 5) v1 (by kernel_rfl) rfl (by kernel_rfl) ?_)
        | (refine wpList_store_row rfl 47 _ _ (by rfl) w.heap.size (arr .u8 powT) (by rfl) (by rfl) 47 _ h0 (by kernel_rfl) (by kernel_rfl) (arr_one _ _) ?_)
        | fail)
      have bA : But w.heap.size wr (wr.setRow w.heap.size (arr .u8 powT)) := (But.refl _ _).setRow _
      have k0 : Lies .u8 47 (wr.setRow w.heap.size (arr .u8 powT)) w.heap.size powT := h0.row
      have v0 := run_loadVar_row (P := Try.prog) (wr.setRow w.heap.size (arr .u8 powT)) w.heap.size _ 47 _ _ _ k0 Try.underlying47 rfl (by kernel_rfl)
      refine bodyPost_ret (v := .agg (arr .u8 powT)) ?_ rfl ⟨rfl, hbr.trans (bA.below (by omega) hbr.size)⟩
      simp [results, Try.results59, asAddr, Act.put, v0]
/-- an array's element, by a number of whatever kind -/
theorem index_arrK {P : Program} (t e : TypeId) (n : Nat) (k q : IntKind) (l : List Nat) (hu : P.underlying t = some (.array n e)) (he : P.underlying e = some (.int k)) (hs : (P.info? e).map (·.size) = some 1) (hn : l.length = n) (i : Nat) (hi : i < n) (w : World) :
    (Instr.index t (.agg (arr k l)) (.int q (i : Int))).run P w = .ok (.int k (el l i)) w := by
  cases hq : P.info? e with
  | none => simp [hq] at hs
  | some x =>
    have hx : x.size = 1 := by simpa [hq] using hs
    have ha := arr_get k l i (by omega)
    have hagg : (isAgg e).run P w = .ok false w := by
      unfold isAgg
      rw [Sem.run_bind, run_underlying he w]; rfl
    simp [Instr.index, asIntOf, Sem.run_bind, run_underlying hu w, sizeOf, typeInfo, hq, hx, part, hagg, ha, show (i : Int) < (n : Int) by omega]
    intro hh; omega
end Go.Proofs.Yteiknfcegchbcaa
