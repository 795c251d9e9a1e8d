/- Keys of chains: words for the laws: few, awake. -/
import Derived.Test.YtpmobjfhhkglbaaWyQ
namespace Go.Proofs.Ytpmobjfhhkglbaa
open Go.RowKit
set_option linter.unusedVariables false
set_option linter.unusedSimpArgs false

theorem wpList_buildY {ops : Array Oper} {rest : List Oper} {o : Oper} {a : Act} {w : World} {Q : Exit → Act → World → Prop} (hg : Region.wanted o (yielded ops a.tmps) = true) (t : TypeId) (ho : o.op = .build t #[]) (cells : Array Value)
    (hr : (Instr.build t #[]).run Try.prog w = .ok (.agg cells) w)
    (h : wpList Try.prog ops Q rest (a.put o.dst (.agg cells)) w) : wpList Try.prog ops Q (o :: rest) a w := by
  refine BigFrame.wpList_want hg fun K hK => ?_
  unfold Oper.wp execOp
  simp only [ho, List.map_toArray, List.map_nil]
  simp [Sem.run_bind, hr]
  exact hK _ _ h
theorem build_ad (w : World) : (Instr.build 37 #[]).run Try.prog w = .ok (.agg (arr .u8 zP)) w := by kernel_rfl
theorem dg_zero : dgW 16 (List.replicate 16 0) = List.replicate 32 0 ++ [1, 14, 0] := by decide
set_option maxHeartbeats 4000000 in
set_option maxRecDepth 100000 in
theorem awakeY_any (w : World) : Calls Try.prog 6 #[] w fun e w' => e = .returned (.bool true) ∧ Below w.heap.size w w' := by
  obtain ⟨i0, hi, hz0, hz1, hz2⟩ := info_parts Try.info5
  have hz := zeroAd
  have hPz : Pl zP := ⟨by decide, fun x hx => by rw [List.eq_of_mem_replicate (show x ∈ List.replicate 32 0 from hx)]; decide⟩
  have hdg := fun y dv (r : Row .u8 256 y dv (List.replicate 16 0)) (t : Tidy dv) => wdig_ok (.inl rfl) _ dv y r t (List.length_replicate)
  rw [dg_zero] at hdg
  have hp1 := fun y => wput_any zP 4 7 y hPz (by decide)
  have h1 := hPz.put 4 7
  have hp2 := fun y => wput_any (putA zP 4 7) 2 2 y h1 (by decide)
  have h2 := h1.put 2 2
  have e1 : el (putA zP 4 7) 27 = 7 := by decide
  have e2 : el (putA (putA zP 4 7) 2 2) 19 = 2 := by decide
  have e3 : el (putA (putA zP 4 7) 2 2) 27 = 0 := by decide
  generalize putA (putA zP 4 7) 2 2 = A2 at *
  generalize putA zP 4 7 = A1 at *
  have hix : ∀ w : World, (Instr.index 37 (.agg (arr .u8 A1)) (.int .i64 27)).run Try.prog w = .ok (.int .u8 7) w := fun w => by
    have h := index_arr (P := Try.prog) 37 5 32 .u8 A1 Try.underlying37 Try.underlying5 (by kernel_rfl) h1.1 27 (by decide) w
    rw [e1] at h
    exact h
  have hl35 : (List.replicate 32 0 ++ [1, 14, 0]).length = 35 := by decide
  have d0 : el (List.replicate 32 0 ++ [1, 14, 0]) 0 = 0 := by decide
  have d32 : el (List.replicate 32 0 ++ [1, 14, 0]) 32 = 1 := by decide
  have d33 : el (List.replicate 32 0 ++ [1, 14, 0]) 33 = 14 := by decide
  have d34 : el (List.replicate 32 0 ++ [1, 14, 0]) 34 = 0 := by decide
  generalize List.replicate 32 0 ++ [1, 14, 0] = DS at *
  have ZR : Under 256 (List.replicate 16 0) := Under.replicate 256 16 (by decide)
  have hl2 := h2.1
  have hzl : zP.length = 32 := by decide
  have hbz := build_ad
  generalize zP = ZP at *
  go_enter Try.func6, Try.ntmps6
  go_wp2_with (first
    | (at_make; refine wpList_make_full _ rfl _ _ 25 rfl w.heap.size 5 i0 (.int .u8 0) 1 Try.underlying25 hi hz0 hz1 _ _ _ _ 16 rfl rfl rfl rfl (by rw [hz2]; omega) (by unfold maxLen; omega) (Nat.le_refl _) ?_; intro w1 hown hgrow; have kw := (Below.refl w.heap.size w).grown hgrow (Nat.le_refl _) (fun k h => by cases h); rw [made_u8] at hown; have ow : Own 5 .u8 256 w1 w.heap.size (.slice (some ⟨w.heap.size, 0, none⟩) 16 16) (List.replicate 16 0) := ⟨by rw [List.length_replicate]; exact hown, ZR⟩)
    | (go_at_call 4; refine (hdg _ _ ow.row tidy_someW).mono ?_; rintro e w2 ⟨v2, rfl, o2, hb2⟩; obtain ⟨da, dc, rfl, _, _, hcl⟩ := o2.row.opens hl35; obtain ⟨db, do_, rfl, hcell⟩ := hcl (by decide); have c0 := hcell 0 (by decide); rw [Nat.add_zero] at c0; have c32 := hcell 32 (by decide); have c33 := hcell 33 (by decide); have c34 := hcell 34 (by decide); rw [d0] at c0; rw [d32] at c32; rw [d33] at c33; rw [d34] at c34; clear hcl hcell)
    | (refine wpList_buildY (by rfl) 37 (by rfl) (arr .u8 ZP) (hbz _) ?_)
    | (go_at_call 12; have hp1x := hp1; clear hp1; refine (hp1x _).mono ?_; rintro e w3 ⟨rfl, hb3⟩)
    | (go_at_call 12; have hu2 := hp2; clear hp2; refine (hu2 _).mono ?_; rintro e w4 ⟨rfl, hb4⟩; have hn4 := heap_alloc_last w4 (.cells (arr .u8 ZP) 37))
    | (refine wpList_store_row rfl 37 _ _ (by rfl) w4.heap.size (arr .u8 A2) (by rfl) (by rfl) _ _ hn4 (by rw [arr_size, hl2]; kernel_rfl) (by rw [arr_size, arr_size, hl2, hzl]) (arr_one _ _) ?_; have ka := keep_alloc w4 (.cells (arr .u8 ZP) 37); have kz := keep_trans (keep_trans hb3 hb4) (ka.trans (((But.refl w4.heap.size (w4.alloc (.cells (arr .u8 ZP) 37))).setRow (arr .u8 A2)).below (Nat.le_refl _) ka.size)); have Lz : Lies .u8 37 ((w4.alloc (.cells (arr .u8 ZP) 37)).setRow w4.heap.size (arr .u8 A2)) w4.heap.size A2 := setRow_heap _ _ _ _ _ _ hn4; have x0 := keep_cell c0 kz; have x32 := keep_cell c32 kz; have x33 := keep_cell c33 kz; have x34 := keep_cell c34 kz; have x19 := Lz.cell (i := 19) (by rw [hl2]; decide); have x27 := Lz.cell (i := 27) (by rw [hl2]; decide); rw [e2] at x19; rw [e3] at x27)
    | (go_at_call 12; refine (hp1x _).mono ?_; rintro e w6 ⟨rfl, hb6⟩)
    | fail)
  go_ret
  exact ⟨rfl, keep_trans (keep_trans (keep_trans kw hb2) kz) hb6⟩
end Go.Proofs.Ytpmobjfhhkglbaa
