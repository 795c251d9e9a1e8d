/- Contract of sha.New. -/
import Derived.Test.YtogiballdmgcpaaGreatDoorHRes32
import Derived.Test.YtogiballdmgcpaaGreatDoorHRes64
import Derived.Test.YtogiballdmgcpaaGreatDoorHSl
import Derived.Test.YtogiballdmgcpaaGreatDoorBase
import Derived.Test.YtogiballdmgcpaaGreatDoorBe
import Derived.Lib.SlBytesConst
import Derived.Stop.Joined
import Derived.Lib.LaidU8
import Derived.Lay
import Derived.LaidMore
import Derived.HandedShaped
import Derived.SevenTiedAt
import Derived.Test.YtogiballdmgcpaaGreatDoorTie
import Derived.Test.YtogiballdmgcpaaGreatDoorCards
import Derived.Deep.Slices
namespace Go.Proofs.YtogiballdmgcpaaGreatDoor
open Go.RowKit
set_option linter.unusedVariables false
set_option linter.unusedSimpArgs false

set_option maxHeartbeats 4000000 in
set_option maxRecDepth 100000 in
theorem new_1 (w : World) (hT : Roots w) :
    Calls Tryz.prog 120 #[.int .i64 1] w fun e w' => e = .returned (.tuple #[.agg (hv 1 (ini 1) (.slice none 0 0) 0), .int .i64 0]) ∧ Below w.heap.size w w' := by
  have hb0 := keep_alloc w (.cells (hv 0 (List.replicate 8 0) (.slice none 0 0) 0) 146)
  have hT0 := (hT.below hb0).2
  have hO0 := Hb.new w 0 (List.replicate 8 0) (.slice none 0 0) 0
  have h8 : (ini 1).length = 8 := by decide
  have hu : Under 4294967296 (ini 1) := dec_under (by decide)
  have hbeg : ∀ w, Calls Tryz.prog 128 #[.agg (vals .u64 squares).toArray, .int .i64 0] w fun e w' => e = .returned (.agg (arr .u32 (ini 1))) ∧ Below w.heap.size w w' := fun w => begin_any32 squares 0 w squares_length squares_under (by decide)
  have hsto : ∀ w, Calls Tryz.prog 129 #[.agg (arr .u32 (ini 1))] w fun e w' => e = .returned (.agg #[.int .u64 (el (ini 1) 0), .int .u64 (el (ini 1) 1), .int .u64 (el (ini 1) 2), .int .u64 (el (ini 1) 3), .int .u64 (el (ini 1) 4), .int .u64 (el (ini 1) 5), .int .u64 (el (ini 1) 6), .int .u64 (el (ini 1) 7)]) ∧ Below w.heap.size w w' := fun w => by
    rw [← arr8 .u64 (ini 1) h8]; exact stored_any32 (ini 1) w h8 hu
  have HO := hide hO0
  have HB := hide hb0
  clear hO0 hb0
  generalize ini 1 = E at *
  go_enter Tryz.func120, Tryz.ntmps120
  go_wp2_with (first
    | (refine wpList_load_mid rfl 167 _ (by rfl) 0 0 (by rfl) (vals .u64 squares) (.array 16 26) hT0 (by kernel_rfl) rfl (by kernel_rfl) ?_)
    | (go_at_call 128; refine (hbeg _).mono ?_; rintro e w1 ⟨rfl, hb1⟩)
    | (go_at_call 129; refine (hsto _).mono ?_; rintro e w2 ⟨rfl, hb2⟩; have hO2 := (HO.out.below hb1).below hb2; obtain ⟨o0, o1, o2, o3, o4, o5, o6, o7, o8, o9, o10⟩ := hO2.all; have p0 := hO2.frozen 0; have p1 := hO2.frozen 1; have p2 := hO2.frozen 2; have p3 := hO2.frozen 3; have p4 := hO2.frozen 4; have p5 := hO2.frozen 5; have p6 := hO2.frozen 6; have p7 := hO2.frozen 7; have p8 := hO2.frozen 8; have p9 := hO2.frozen 9; have p10 := hO2.frozen 10)
    | fail)
  have hfu := El.full hO2.elev (.int .i64 1) (.int .u64 (el E 0)) (.int .u64 (el E 1)) (.int .u64 (el E 2)) (.int .u64 (el E 3)) (.int .u64 (el E 4)) (.int .u64 (el E 5)) (.int .u64 (el E 6)) (.int .u64 (el E 7)) (.slice none 0 0) (.int .u64 0)
  have hBg : Below w.heap.size w (((((((((((w2.setCell ⟨w.heap.size, 0, none⟩ (.int .i64 1)).setCell ⟨w.heap.size, 1, none⟩ (.int .u64 (el E 0))).setCell ⟨w.heap.size, 2, none⟩ (.int .u64 (el E 1))).setCell ⟨w.heap.size, 3, none⟩ (.int .u64 (el E 2))).setCell ⟨w.heap.size, 4, none⟩ (.int .u64 (el E 3))).setCell ⟨w.heap.size, 5, none⟩ (.int .u64 (el E 4))).setCell ⟨w.heap.size, 6, none⟩ (.int .u64 (el E 5))).setCell ⟨w.heap.size, 7, none⟩ (.int .u64 (el E 6))).setCell ⟨w.heap.size, 8, none⟩ (.int .u64 (el E 7))).setCell ⟨w.heap.size, 9, none⟩ (.slice none 0 0)).setCell ⟨w.heap.size, 10, none⟩ (.int .u64 0)) := (keep_trans (keep_trans HB.out hb1) hb2).trans (((But.setCell (But.setCell (But.setCell (But.setCell (But.setCell (But.setCell (But.setCell (But.setCell (But.setCell (But.setCell (But.setCell (But.refl w.heap.size w2) _ _) _ _) _ _) _ _) _ _) _ _) _ _) _ _) _ _) _ _) _ _)).below (Nat.le_refl _) (by have := HB.out.size; have := hb1.size; have := hb2.size; simp at *; omega))
  have hfin : Hb (((((((((((w2.setCell ⟨w.heap.size, 0, none⟩ (.int .i64 1)).setCell ⟨w.heap.size, 1, none⟩ (.int .u64 (el E 0))).setCell ⟨w.heap.size, 2, none⟩ (.int .u64 (el E 1))).setCell ⟨w.heap.size, 3, none⟩ (.int .u64 (el E 2))).setCell ⟨w.heap.size, 4, none⟩ (.int .u64 (el E 3))).setCell ⟨w.heap.size, 5, none⟩ (.int .u64 (el E 4))).setCell ⟨w.heap.size, 6, none⟩ (.int .u64 (el E 5))).setCell ⟨w.heap.size, 7, none⟩ (.int .u64 (el E 6))).setCell ⟨w.heap.size, 8, none⟩ (.int .u64 (el E 7))).setCell ⟨w.heap.size, 9, none⟩ (.slice none 0 0)).setCell ⟨w.heap.size, 10, none⟩ (.int .u64 0)) w.heap.size 1 E (.slice none 0 0) 0 := hfu
  clear hfu
  generalize (((((((((((w2.setCell ⟨w.heap.size, 0, none⟩ (.int .i64 1)).setCell ⟨w.heap.size, 1, none⟩ (.int .u64 (el E 0))).setCell ⟨w.heap.size, 2, none⟩ (.int .u64 (el E 1))).setCell ⟨w.heap.size, 3, none⟩ (.int .u64 (el E 2))).setCell ⟨w.heap.size, 4, none⟩ (.int .u64 (el E 3))).setCell ⟨w.heap.size, 5, none⟩ (.int .u64 (el E 4))).setCell ⟨w.heap.size, 6, none⟩ (.int .u64 (el E 5))).setCell ⟨w.heap.size, 7, none⟩ (.int .u64 (el E 6))).setCell ⟨w.heap.size, 8, none⟩ (.int .u64 (el E 7))).setCell ⟨w.heap.size, 9, none⟩ (.slice none 0 0)).setCell ⟨w.heap.size, 10, none⟩ (.int .u64 0)) = wf at *
  obtain ⟨z0, z1, z2, z3, z4, z5, z6, z7, z8, z9, z10⟩ := hfin.all
  refine bodyPost_ret (v := .tuple #[.agg (hv 1 E (.slice none 0 0) 0), .int .i64 0]) ?_ rfl ⟨rfl, hBg⟩
  unfold hv
  simp [results, Tryz.results120, go_sem, z0, z1, z2, z3, z4, z5, z6, z7, z8, z9, z10]
end Go.Proofs.YtogiballdmgcpaaGreatDoor

/- Contracts of sha.end, Sum, End. -/
namespace Go.Proofs.YtogiballdmgcpaaGreatDoor
open Go.RowKit
set_option linter.unusedVariables false
set_option linter.unusedSimpArgs false

/-- how many bytes a kind's sum has -/
def outn (kind : Int) : Nat := if kind = 1 then 32 else if kind = 2 then 48 else 64
set_option maxHeartbeats 2000000 in
set_option maxRecDepth 100000 in
theorem send_1 (ws : List Nat) (tv : Value) (tl : List Nat) (size : Nat) (w : World) (hT : Roots w) (h8 : ws.length = 8) (hu : Under 4294967296 ws) (hRt : Row .u8 256 w tv tl) (tT : Tidy tv) (htl : tl.length ≤ 100000) (hsz : size < 1152921504606846976) :
    Calls Tryz.prog 121 #[.agg (hv 1 ws tv size)] w fun e w' => ∃ v', e = .returned v' ∧ Own 5 .u8 256 w' w.heap.size v' (endS false ws tl size 32) ∧ Below w.heap.size w w' := by
  have hb0 := keep_alloc w (.cells (hv 1 ws tv size) 146)
  have hf := finish_any32 1 ws tv tl size 32 _ (hT.below hb0) h8 hu (hRt.below hb0) tT htl hsz (by decide)
  obtain ⟨ta, tc, rfl⟩ := hRt.form
  unfold hv at *
  go_enter Tryz.func121, Tryz.ntmps121
  go_wp2_with (first | (go_at_call 132; refine hf.mono ?_; rintro e w1 ⟨v1, rfl, hO1, hb1⟩) | fail)
  go_ret
  exact ⟨_, rfl, hO1.mono (by simp), keep_trans hb0 hb1⟩

set_option maxHeartbeats 2000000 in
set_option maxRecDepth 100000 in
theorem send_2 (ws : List Nat) (tv : Value) (tl : List Nat) (size : Nat) (w : World) (hT : Roots w) (h8 : ws.length = 8) (hu : Under 18446744073709551616 ws) (hRt : Row .u8 256 w tv tl) (tT : Tidy tv) (htl : tl.length ≤ 100000) (hsz : size < 1152921504606846976) :
    Calls Tryz.prog 121 #[.agg (hv 2 ws tv size)] w fun e w' => ∃ v', e = .returned v' ∧ Own 5 .u8 256 w' w.heap.size v' (endS true ws tl size 48) ∧ Below w.heap.size w w' := by
  have hb0 := keep_alloc w (.cells (hv 2 ws tv size) 146)
  have hf := finish_any64 2 ws tv tl size 48 _ (hT.below hb0) h8 hu (hRt.below hb0) tT htl hsz (by decide)
  obtain ⟨ta, tc, rfl⟩ := hRt.form
  unfold hv at *
  go_enter Tryz.func121, Tryz.ntmps121
  go_wp2_with (first | (go_at_call 133; refine hf.mono ?_; rintro e w1 ⟨v1, rfl, hO1, hb1⟩) | fail)
  go_ret
  exact ⟨_, rfl, hO1.mono (by simp), keep_trans hb0 hb1⟩

set_option maxHeartbeats 2000000 in
set_option maxRecDepth 100000 in
theorem send_3 (ws : List Nat) (tv : Value) (tl : List Nat) (size : Nat) (w : World) (hT : Roots w) (h8 : ws.length = 8) (hu : Under 18446744073709551616 ws) (hRt : Row .u8 256 w tv tl) (tT : Tidy tv) (htl : tl.length ≤ 100000) (hsz : size < 1152921504606846976) :
    Calls Tryz.prog 121 #[.agg (hv 3 ws tv size)] w fun e w' => ∃ v', e = .returned v' ∧ Own 5 .u8 256 w' w.heap.size v' (endS true ws tl size 64) ∧ Below w.heap.size w w' := by
  have hb0 := keep_alloc w (.cells (hv 3 ws tv size) 146)
  have hf := finish_any64 3 ws tv tl size 64 _ (hT.below hb0) h8 hu (hRt.below hb0) tT htl hsz (by decide)
  obtain ⟨ta, tc, rfl⟩ := hRt.form
  unfold hv at *
  go_enter Tryz.func121, Tryz.ntmps121
  go_wp2_with (first | (go_at_call 133; refine hf.mono ?_; rintro e w1 ⟨v1, rfl, hO1, hb1⟩) | fail)
  go_ret
  exact ⟨_, rfl, hO1.mono (by simp), keep_trans hb0 hb1⟩

theorem send_any (kind : Int) (hk : kind = 1 ∨ kind = 2 ∨ kind = 3) (ws : List Nat) (tv : Value) (tl : List Nat) (size : Nat) (w : World) (hT : Roots w) (h8 : ws.length = 8) (hu : Under (wm (wide kind)) ws) (hRt : Row .u8 256 w tv tl) (tT : Tidy tv) (htl : tl.length ≤ 100000) (hsz : size < 1152921504606846976) :
    Calls Tryz.prog 121 #[.agg (hv kind ws tv size)] w fun e w' => ∃ v', e = .returned v' ∧ Own 5 .u8 256 w' w.heap.size v' (endS (wide kind) ws tl size (outn kind)) ∧ Below w.heap.size w w' := by
  rcases hk with rfl | rfl | rfl
  · exact send_1 ws tv tl size w hT h8 hu hRt tT htl hsz
  · exact send_2 ws tv tl size w hT h8 hu hRt tT htl hsz
  · exact send_3 ws tv tl size w hT h8 hu hRt tT htl hsz

end Go.Proofs.YtogiballdmgcpaaGreatDoor

/- Contract of sha.Sum. -/
namespace Go.Proofs.YtogiballdmgcpaaGreatDoor
open Go.RowKit
set_option linter.unusedVariables false
set_option linter.unusedSimpArgs false

set_option maxHeartbeats 2000000 in
set_option maxRecDepth 100000 in
theorem sum_1 (bv : Value) (b : List Nat) (w : World) (hT : Roots w) (hR : Row .u8 256 w bv b) (tB : Tidy bv) (hbl : b.length ≤ 100000) :
    Calls Tryz.prog 107 #[.int .i64 1, bv] w fun e w' => ∃ v', e = .returned (.tuple #[v', .int .i64 0]) ∧ Own 5 .u8 256 w' w.heap.size v' (endS (wide 1) (ini 1) b b.length (outn 1)) ∧ Below w.heap.size w w' := by
  have h8 : (ini 1).length = 8 := by decide
  have hu : Under (wm (wide 1)) (ini 1) := dec_under (by decide)
  have hnew := new_1 w hT
  obtain ⟨ba, bc, rfl⟩ := hR.form
  have hse := fun w1 (hb1 : Below w.heap.size w w1) => send_any 1 (by decide) (ini 1) (.slice ba b.length bc) b b.length _ ((hT.below hb1).below (keep_alloc w1 (.cells (hv 1 (ini 1) (.slice ba b.length bc) b.length) 146))) h8 hu ((hR.below hb1).below (keep_alloc w1 (.cells (hv 1 (ini 1) (.slice ba b.length bc) b.length) 146))) tB hbl (by omega)
  generalize ini 1 = E at *
  have hwr : IntKind.u64.wrap (b.length : Int) = (b.length : Int) := by rw [IntKind.wrap_u64]; omega
  unfold hv at *
  go_enter Tryz.func107, Tryz.ntmps107
  go_wp2_with (first
    | (go_at_call 120; refine hnew.mono ?_; rintro e w1 ⟨rfl, hb1⟩)
    | (go_at_call 121; refine (hse w1 hb1).mono ?_; rintro e w2 ⟨v2, rfl, hO2, hb2⟩)
    | fail)
  go_ret2
  exact ⟨_, rfl, hO2.mono (by have := hb1.size; simp; omega), keep_trans (keep_trans hb1 (keep_alloc _ _)) hb2⟩

end Go.Proofs.YtogiballdmgcpaaGreatDoor

/- Plain facts on what fills up a text: the document's way, and the code's. -/
namespace Go.Proofs.YtogiballdmgcpaaGreatDoor
set_option linter.unusedVariables false
set_option linter.unusedSimpArgs false

theorem leL_add (n a z : Nat) (h : n < 256 ^ a) : leL n (a + z) = leL n a ++ List.replicate z 0 := by
  induction z with
  | zero => simp
  | succ z ih =>
    have e : leL n (a + (z + 1)) = leL n (a + z) ++ [n / 256 ^ (a + z) % 256] := by
      unfold leL
      rw [show a + (z + 1) = a + z + 1 by omega, List.range_succ, List.map_append]; rfl
    have hz : n / 256 ^ (a + z) % 256 = 0 := by
      rw [Nat.div_eq_of_lt (Nat.lt_of_lt_of_le h (Nat.pow_le_pow_right (by decide) (by omega)))]
    rw [e, ih, hz, List.append_assoc, List.replicate_succ']
/-- so many bytes 0 stand between the byte 128 and the size's last eight bytes -/
theorem fill_is (b : Bool) (t size : Nat) (hs : size < 1152921504606846976) (hr : 8 ≤ room b t) : fill b t size = [128] ++ List.replicate (room b t - 8) 0 ++ (leL (8 * size) 8).reverse := by
  unfold fill
  have e : leL (8 * size) (room b t) = leL (8 * size) 8 ++ List.replicate (room b t - 8) 0 := by
    have := leL_add (8 * size) 8 (room b t - 8) (by have : (256 : Nat) ^ 8 = 18446744073709551616 := by decide
                                                    omega)
    rw [show 8 + (room b t - 8) = room b t by omega] at this
    exact this
  rw [e, List.reverse_append, List.reverse_replicate, List.append_assoc]
theorem room32 (t : Nat) (ht : t < 64) : room false t - 8 = if t + 1 ≤ 56 then 55 - t else 119 - t := by
  unfold room
  have e : bz false = 64 := rfl
  rw [e, Nat.mod_eq_of_lt ht]
  by_cases h : 64 - t - 1 < 64 / 8
  · rw [if_pos h, if_neg (by omega)]; omega
  · rw [if_neg h, if_pos (by omega)]; omega
theorem room64 (t : Nat) (ht : t < 128) : room true t - 16 = if t + 1 ≤ 112 then 111 - t else 239 - t := by
  unfold room
  have e : bz true = 128 := rfl
  rw [e, Nat.mod_eq_of_lt ht]
  by_cases h : 128 - t - 1 < 128 / 8
  · rw [if_pos h, if_neg (by omega)]; omega
  · rw [if_neg h, if_pos (by omega)]; omega
theorem room64_ge (t : Nat) (ht : t < 128) : 16 ≤ room true t := by
  unfold room
  have e : bz true = 128 := rfl
  rw [e, Nat.mod_eq_of_lt ht]
  split <;> omega
theorem fill_wide (t size : Nat) (ht : t < 128) (hs : size < 1152921504606846976) : fill true t size = [128] ++ List.replicate (room true t - 16) 0 ++ (leL (size / 2305843009213693952) 8).reverse ++ (leL (8 * size) 8).reverse := by
  have hr := room64_ge t ht
  have hz : size / 2305843009213693952 = 0 := Nat.div_eq_of_lt (by omega)
  have e0 : (leL 0 8).reverse = List.replicate 8 0 := by decide
  rw [fill_is true t size hs (by omega), hz, e0, show room true t - 8 = (room true t - 16) + 8 by omega, ← List.replicate_append_replicate]
  simp only [List.append_assoc]
end Go.Proofs.YtogiballdmgcpaaGreatDoor

/- Plain facts for the law of what fills up a text. -/
namespace Go.Proofs.YtogiballdmgcpaaGreatDoor

theorem leL_len (n : Nat) : ∀ k, (leL n k).length = k := by
  intro k
  simp [leL]
theorem room_8 (n : Nat) : 8 ≤ room false n := by
  have : bz false = 64 := rfl
  unfold room
  rw [this]
  split <;> omega
end Go.Proofs.YtogiballdmgcpaaGreatDoor

/- The two tables of roots, as the row lists them. -/
namespace Go.Proofs.YtogiballdmgcpaaGreatDoor
open Go.ChangeShapes Go.WideShapes Go.ChangeAt Go.RowKit Go.Lib
set_option linter.unusedVariables false
set_option linter.unusedSimpArgs false

/-- a law's frame where the row lists variables: the contract is told that they read so, and that the world is well shaped -/
theorem change_laid_shaped {H : Type} {enc : TypeId × Value → H} {a : Assume} {C : Checked} {os : Os} {f : FuncId} {fn : Func} {s : ChangeSpec} {conds : List PathCond} {apart fresh handsOn again : Bool} {X : World → Array Value → Prop}
    (hX : ∀ (w w' : World) (args : Array Value), w.heap = w'.heap → X w args → X w' args)
    (own : ownKnob C.prog.godebug = none) (started : os.Started) (noInit : C.prog.inits.idxOf? f = none) (hfn : C.prog.funcs[f]? = some fn)
    (witness : ∃ (w : World) (tape : Tape) (i : Input), w.os = os ∧ (w.forCall tape i).Shaped C.prog ∧ i.vars = [] ∧ Input.okWide C.prog (w.forCall tape i) .any w.heap.size f i ∧
      ((s.pre enc C.prog fn conds apart (w.forCall tape i).memory i.args ∧ X (w.forCall tape i).memory i.args) ∧ sizedMet enc C.prog fn (OpenSpec.ofChange s) apart (w.forCall tape i).memory i.args) ∧ a.holds C.prog (lone (Frame.enter C.prog f i.args .normal) [] (w.forCall tape i)))
    (contract : ∀ (W : World) (base : Nat) (args : Array Value) (ds gs : List (DataW H)) (before : List MemPlace),
      (∀ (j : Nat) t v, fn.params[j]? = some t → args[j]? = some v → Value.okWide C.prog W .any base t v) →
      DataW.Whole enc C.prog fn.params.toList s.vars apart W args.toList ds gs before →
      (DataW.weightsEach C.prog (fn.params.toList ++ s.plain.varTypes C.prog) (ds ++ gs)).all (· ≤ reachBytes) = true → X W args → W.ShapedOpen C.prog →
      Calls C.prog f args W fun e W' => ∃ v, e = .returned v ∧ s.post enc C.prog fn apart fresh handsOn again W args v W') :
    ReturnsInHanded a C os f .any (fun w args => (s.pre enc C.prog fn conds apart w args ∧ X w args) ∧ sizedMet enc C.prog fn (OpenSpec.ofChange s) apart w args) (s.post enc C.prog fn apart fresh handsOn again) := by
  refine returnsInHanded_of_calls own started noInit witness ?_
  intro w tape i _ hsh _ hok hpre _
  obtain ⟨_, _, _, fn', hfn', _, _, _, _, hval⟩ := hok
  obtain rfl : fn' = fn := Option.some.inj (hfn'.symm.trans hfn)
  obtain ⟨⟨⟨ds, gs, before, hw, hc⟩, hx⟩, hz⟩ := hpre
  have hw' := DataW.Whole.of_heap (w' := w.forCall tape i) (by rfl) hw
  refine (contract (w.forCall tape i) w.heap.size i.args ds gs before hval hw' (hz.weights hw) (hX _ _ _ (by rfl) hx) hsh).mono fun e W' ⟨v, he, hp⟩ => ?_
  subst he
  exact ChangeSpec.post_blind hp

theorem tabC : (Rows.laid_apostille_sha_cubeRoots : DataW Unit) = tabData .u64 (cubes.map Int.ofNat) := by kernel_rfl
theorem tabS : (Rows.laid_apostille_sha_squareRoots : DataW Unit) = tabData .u64 (squares.map Int.ofNat) := by kernel_rfl
theorem tab_cells {w : World} {n : String} {g : Nat} {t : TypeId} {l : List Nat} (hn : Tryz.prog.globalNamed n = some g) (hy : (Tryz.prog.globals[g]?).map (·.type) = some t) (ht : Tryz.prog.underlying t = some (.array l.length 26)) (hc : Tryz.prog.cellsOf t = l.length) (hc1 : Tryz.prog.cellsOf 26 = 1)
    (h : VarReads Tryz.prog w n (tabData .u64 (l.map Int.ofNat))) : w.rangeAt g 0 (vals .u64 l) := by
  obtain ⟨g', t', cs, fuel, p, hg, hty, hvar, hd⟩ := h
  obtain rfl := Option.some.inj (hn.symm.trans hg)
  obtain rfl := Option.some.inj (hy.symm.trans hty)
  have hcs := cells_of_tab ht Tryz.underlying26 hc1 hc hd
  intro j v hv
  have := World.var?_cell hg hvar j
  rw [Nat.zero_add, this, ← Array.getElem?_toList, hcs]
  simpa [vals] using hv
def Vars (w : World) : Prop := Roots w
set_option maxRecDepth 100000 in
theorem vars_of_laid {W : World} (h : laidMetH Tryz.prog [("apostille/sha.cubeRoots", Rows.laid_apostille_sha_cubeRoots), ("apostille/sha.squareRoots", Rows.laid_apostille_sha_squareRoots)] W) (hsh : W.ShapedOpen Tryz.prog) : Vars W := by
  rw [MakeChecks.laidMetH_plain _ _ _ (by kernel_rfl)] at h
  rw [tabC, tabS] at h
  exact ⟨tab_cells (by kernel_rfl) (by kernel_rfl) Tryz.underlying174 (by kernel_rfl) (by kernel_rfl) (Lib.laidMet.reads h (.head _)), tab_cells (by kernel_rfl) (by kernel_rfl) Tryz.underlying167 (by kernel_rfl) (by kernel_rfl) (Lib.laidMet.reads h (.tail _ (.head _)))⟩
end Go.Proofs.YtogiballdmgcpaaGreatDoor

/- How a slice of texts that came in is read. -/
namespace Go.Proofs.YtogiballdmgcpaaGreatDoor
open Go.ChangeShapes Go.WideShapes Go.ChangeAt Go.RowKit Go.Deep
set_option linter.unusedVariables false

theorem Tryz.cells23 : Tryz.prog.cellsOf 23 = 1 := by kernel_rfl

/-- a text that is read -/
theorem read_text {H : Type} {enc : TypeId × Value → H} {W : World} {fuel : Nat} {v : Value} {x : DataW H × List MemPlace}
    (h : DataW.trod enc Tryz.prog W 0 (fun _ => true) true fuel 23 [v] = some x) : ∃ l, Row .u8 256 W v l ∧ Tidy v := by
  rcases open_ints Tryz.underlying23 Tryz.underlying5 (by kernel_rfl) h with ⟨hcs, _⟩ | ⟨a, len, cap, zs, hcs, _, hl, hm, hz, _, hcell, hwz⟩
  · simp at hcs
    subst hcs
    exact ⟨[], Row.nil _ _ _, fun n c he => by simp at he; omega⟩
  · simp at hcs
    subst hcs
    have hr : IsRow .u8 W (some a) len cap zs := .inr ⟨a, rfl, hl, hm, by simpa using hz, hcell, hwz⟩
    obtain ⟨l, _, hrow⟩ := hr.row wf_u8
    exact ⟨l, hrow, fun n c he => by simp at he⟩

end Go.Proofs.YtogiballdmgcpaaGreatDoor

/- An append whose second argument is a slice of another named type. -/
namespace Go.Proofs.YtogiballdmgcpaaGreatDoor
open Go.RowKit
set_option linter.unusedVariables false

theorem append_types {P : Program} (w : World) (t tx ty e e' : TypeId) (ht : P.underlying t = some (.slice e)) (hx : P.underlying tx = some (.slice e')) (v x : Value) :
    (Builtin.append_ #[t, tx] ty #[v, x]).run P w = (Builtin.append_ #[t, t] ty #[v, x]).run P w := by
  unfold Builtin.append_
  simp only [List.getElem?_toArray, List.getElem?_cons_zero, List.getElem?_cons_succ, Sem.run_bind, run_underlying ht, Result.andThen_ok]
  cases v <;> try rfl
  simp only [Sem.run_bind]
  cases (sizeOf e).run P w
  · simp only [Result.andThen, run_underlying ht, run_underlying hx]
  all_goals rfl

end Go.Proofs.YtogiballdmgcpaaGreatDoor

/- An append of a slice whatever it is (nil, empty or not); texts one behind the other. -/
namespace Go.Proofs.YtogiballdmgcpaaGreatDoor
open Go.RowKit Go.Deep
set_option linter.unusedVariables false

theorem run_append_none2 {P : Program} (w : World) (base : Nat) (t tx ty e e' : TypeId) (i : TypeInfo) (size : Nat) (ht : P.underlying t = some (.slice e)) (htx : P.underlying tx = some (.slice e')) (hi : P.info? e = some i)
    (v : Value) (n c : Nat) (xs : List Value) (hown : w.ownsRow base e size v n xs) : (Builtin.append_ #[t, tx] ty #[v, .slice none 0 c]).run P w = .ok v w := by
  rw [append_types w t tx ty e e' ht htx]
  rcases hown.2 with ⟨rfl, rfl⟩ | ⟨g, cap, cur, rfl, _, _, hnc, _⟩
  · simp [Builtin.append_, run_underlying ht, sizeOf, typeInfo, hi, Builtin.lenOf, Builtin.firstCells]
  · simp [Builtin.append_, run_underlying ht, sizeOf, typeInfo, hi, Builtin.lenOf, Builtin.firstCells, hnc, storeCells]
theorem grown_refl (w : World) (r : Option Nat) : w.grownBy w r := ⟨rfl, rfl, rfl, Nat.le_refl _, fun _ _ _ => rfl⟩

theorem run_append_rows {P : Program} (w : World) (t tx ty e' : TypeId) (htx : P.underlying tx = some (.slice e'))
    (base : Nat) (e : TypeId) (i : TypeInfo) (z : Value) (bytes : Nat) (ht : P.underlying t = some (.slice e)) (hi : P.info? e = some i) (hz : i.zero = some z)
    (hsize : i.size = 1) (hby : i.bytes = bytes) (hzs : z.cells.size = 1) (v : Value) (n : Nat) (xs : List Value) (hown : w.ownsRow base e 1 v n xs)
    (ad : Option Addr) (m c : Nat) (news : List Value) (hl : news.length = m)
    (hnews : 0 < m → ∃ b off, ad = some ⟨b, off, none⟩ ∧ ∀ j u, news[j]? = some u → w.cell? ⟨b, off + j, none⟩ = some u) (h1 : ∀ u ∈ news, u.oneCell' = true)
    (h63 : n + m ≤ maxLen) (hbytes : (n + m) * bytes ≤ 140737488355328) (hbase : base ≤ w.heap.size) :
    ∃ v' w', (Builtin.append_ #[t, tx] ty #[v, .slice ad m c]).run P w = .ok v' w' ∧ w'.ownsRow base e 1 v' (n + m) (xs ++ news) ∧ w.grownBy w' v.ownBlock := by
  cases ad with
  | none =>
    have hm : m = 0 := by
      rcases Nat.eq_zero_or_pos m with h0 | h0
      · exact h0
      · obtain ⟨_, _, h2, _⟩ := hnews h0; cases h2
    subst hm
    have hn0 : news = [] := List.eq_nil_of_length_eq_zero hl
    subst hn0
    exact ⟨v, w, run_append_none2 (P := P) w base t tx ty e e' i 1 ht htx hi v n c xs hown, by rw [List.append_nil]; exact hown, grown_refl _ _⟩
  | some x0 =>
    obtain ⟨v', w', hr, h2, h3, _⟩ := run_append_own (P := P) w base t ty e i z 1 bytes ht hi hz hsize hby hzs (by decide) v n xs hown x0 m c news (by rw [hl, Nat.mul_one]) (by
      intro j u hj
      have hj' : j < news.length := (List.getElem?_eq_some_iff.1 hj).1
      obtain ⟨b, off, h2, h3⟩ := hnews (by omega)
      obtain rfl := Option.some.inj h2
      rw [Addr.add_lit]
      exact h3 j u hj) h1 h63 hbytes hbase
    rw [← append_types w t tx ty e e' ht htx] at hr
    exact ⟨v', w', hr, h2, h3⟩
theorem wp_append_rows {P : Program} (w : World) {o : Oper} {a : Act} {K : Act → World → Prop} {Q : Exit → Act → World → Prop} (s x : Operand) (t tx e' : TypeId)
    (ho : o.op = .call { callee := .builtin .append, args := #[s, x], argTypes := #[t, tx] }) (htx : P.underlying tx = some (.slice e'))
    (base : Nat) (e : TypeId) (i : TypeInfo) (z : Value) (bytes : Nat) (ht : P.underlying t = some (.slice e)) (hi : P.info? e = some i) (hz : i.zero = some z)
    (hsize : i.size = 1) (hby : i.bytes = bytes) (hzs : z.cells.size = 1)
    (v : Value) (n : Nat) (xs : List Value) (hs : a.eval s = v) (hown : w.ownsRow base e 1 v n xs)
    (ad : Option Addr) (m c : Nat) (news : List Value) (hx : a.eval x = .slice ad m c) (hl : news.length = m)
    (hnews : 0 < m → ∃ b off, ad = some ⟨b, off, none⟩ ∧ ∀ j u, news[j]? = some u → w.cell? ⟨b, off + j, none⟩ = some u) (h1 : ∀ u ∈ news, u.oneCell' = true)
    (h63 : n + m ≤ maxLen) (hbytes : (n + m) * bytes ≤ 140737488355328) (hbase : base ≤ w.heap.size)
    (h : ∀ v' w', w'.ownsRow base e 1 v' (n + m) (xs ++ news) → w.grownBy w' v.ownBlock → K (a.put o.dst v') w') : o.wp P a w K Q := by
  obtain ⟨v', w', hr, h2, h3⟩ := run_append_rows (P := P) w t tx o.type e' htx base e i z bytes ht hi hz hsize hby hzs v n xs hown ad m c news hl hnews h1 h63 hbytes hbase
  unfold Oper.wp execOp
  simp only [ho, resolve, invoke, builtin, Sem.run_bind, Sem.run_pure, Result.andThen_ok, List.map_toArray, List.map_cons, List.map_nil, hs, hx, hr]
  exact h v' w' h2 h3
theorem Tryz.infoT : (Tryz.prog.info? 23).map (fun i => (i.zero, i.size, i.bytes)) = some (some (.slice none 0 0), 1, 24) := by kernel_rfl
theorem info_text : ∃ i, Tryz.prog.info? 23 = some i ∧ i.zero = some (.slice none 0 0) ∧ i.size = 1 ∧ i.bytes = 24 := by
  have h := Tryz.infoT
  obtain ⟨i, hi, he⟩ := Option.map_eq_some_iff.1 h
  simp only [Prod.mk.injEq] at he
  exact ⟨i, hi, he.1, he.2.1, he.2.2⟩
theorem info_byte : ∃ i, Tryz.prog.info? 5 = some i ∧ i.zero = some (.int .u8 0) ∧ i.size = 1 ∧ i.bytes = 1 := by
  have h := Tryz.info5
  obtain ⟨i, hi, he⟩ := Option.map_eq_some_iff.1 h
  simp only [Prod.mk.injEq] at he
  exact ⟨i, hi, he.1, he.2.1, he.2.2⟩

/-- values that are texts of the world w -/
def Texts (w : World) (us : List Value) (l : List (List Nat)) : Prop := us.length = l.length ∧ ∀ i, i < l.length → ∃ u, us[i]? = some u ∧ Row .u8 256 w u (tx l i) ∧ Tidy u
theorem Texts.nil (w : World) : Texts w [] [] := ⟨rfl, fun i hi => by simp at hi⟩
theorem Texts.append {w : World} {us vs : List Value} {l m : List (List Nat)} (h : Texts w us l) (k : Texts w vs m) : Texts w (us ++ vs) (l ++ m) := by
  refine ⟨by rw [List.length_append, List.length_append, h.1, k.1], fun i hi => ?_⟩
  rw [List.length_append] at hi
  by_cases hl : i < l.length
  · obtain ⟨u, hu, hr⟩ := h.2 i hl
    refine ⟨u, by rw [List.getElem?_append_left (by rw [h.1]; exact hl)]; exact hu, ?_⟩
    have e : tx (l ++ m) i = tx l i := by unfold tx; rw [List.getElem?_append_left hl]
    rw [e]; exact hr
  · obtain ⟨u, hu, hr⟩ := k.2 (i - l.length) (by omega)
    refine ⟨u, by rw [List.getElem?_append_right (by rw [h.1]; omega), h.1]; exact hu, ?_⟩
    have e : tx (l ++ m) i = tx m (i - l.length) := by unfold tx; rw [List.getElem?_append_right (by omega)]
    rw [e]; exact hr
theorem Texts.one {w : World} {u : Value} {x : List Nat} (h : Row .u8 256 w u x) (ht : Tidy u) : Texts w [u] [x] := by
  refine ⟨rfl, fun i hi => ?_⟩
  have : i = 0 := by simp at hi; omega
  subst this
  exact ⟨u, rfl, h, ht⟩
theorem Texts.below {w w' : World} {us : List Value} {l : List (List Nat)} (h : Texts w us l) (hb : Below w.heap.size w w') : Texts w' us l :=
  ⟨h.1, fun i hi => by obtain ⟨u, hu, hr, ht⟩ := h.2 i hi; exact ⟨u, hu, hr.below hb, ht⟩⟩
theorem Row.one {k : IntKind} {m : Nat} {w : World} {u : Value} {l : List Nat} (h : Row k m w u l) : u.oneCell' = true := by
  obtain ⟨a, c, rfl, _⟩ := h
  rfl
theorem Texts.cells {w : World} {us : List Value} {l : List (List Nat)} (h : Texts w us l) : ∀ u ∈ us, u.oneCell' = true := by
  intro u hu
  obtain ⟨i, hi, rfl⟩ := List.getElem_of_mem hu
  obtain ⟨u', hu', hr, _⟩ := h.2 i (by rw [← h.1]; exact hi)
  rw [List.getElem?_eq_getElem hi] at hu'
  obtain rfl := Option.some.inj hu'
  exact hr.one
/-- a slice of texts, as the values that it holds -/
theorem Rows2.texts {w : World} {v : Value} {l : List (List Nat)} (h : Rows2 w v l) : ∃ us a cap, v = .slice a l.length cap ∧ l.length ≤ cap ∧ cap ≤ 9223372036854775807 ∧ Texts w us l ∧
    (0 < l.length → ∃ b off, a = some ⟨b, off, none⟩ ∧ ∀ j u, us[j]? = some u → w.cell? ⟨b, off + j, none⟩ = some u) := by
  obtain ⟨a, cap, rfl, h1, h2, h3⟩ := h
  unfold maxLen at h2
  by_cases hl : 0 < l.length
  · obtain ⟨b, off, rfl, hc⟩ := h3 hl
    have : Inhabited Value := ⟨undef⟩
    obtain ⟨f, hf⟩ := choose_lt (α := Value) hc
    refine ⟨(List.range l.length).map f, _, cap, rfl, h1, by omega, ⟨by simp, fun i hi => ⟨f i, by simp [hi], (hf i hi).2.1, (hf i hi).2.2⟩⟩, fun _ => ⟨b, off, rfl, fun j u hj => ?_⟩⟩
    have hj' : j < l.length := by have := (List.getElem?_eq_some_iff.1 hj).1; simpa using this
    simp [hj'] at hj
    subst hj
    exact (hf j hj').1
  · have h0 : l = [] := by cases l with | nil => rfl | cons x l => simp at hl
    subst h0
    exact ⟨[], a, cap, rfl, h1, by omega, Texts.nil _, fun h => by simp at h⟩
/-- a row of the call's own that holds texts -/
theorem Texts.rows2 {w : World} {B : Nat} {v : Value} {us : List Value} {l : List (List Nat)} (h : Texts w us l) (ho : w.ownsRow B 23 1 v l.length us) : Rows2 w v l := by
  have ho' := ho
  obtain ⟨h1, ⟨rfl, h2⟩ | ⟨g, cap, cur, rfl, h3, h4, h5, h6, h7, h8⟩⟩ := ho
  · exact ⟨none, 0, by rw [h2], by omega, Nat.zero_le _, fun hl => by omega⟩
  · refine ⟨_, cap, rfl, h5, h6, fun hl => ⟨g, 0, rfl, fun i hi => ?_⟩⟩
    obtain ⟨u, hu, hr⟩ := h.2 i hi
    refine ⟨u, ?_, hr⟩
    rw [Nat.zero_add, ho'.cellAt i (by omega)]
    exact hu
end Go.Proofs.YtogiballdmgcpaaGreatDoor
