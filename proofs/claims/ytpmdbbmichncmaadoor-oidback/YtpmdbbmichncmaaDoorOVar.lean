/- What the walks take of the library's variables; contract of oid.Text. -/
import Derived.Test.YtpmdbbmichncmaaDoorOTxt
namespace Go.Proofs.YtpmdbbmichncmaaDoor
open Go.RowKit
set_option linter.unusedVariables false

/-- the library's variables that are met hold what its text lays in them; of one it is enough that it holds a number -/
structure Vars (w : World) : Prop where
  mx : ∃ m, w.cell? ⟨3, 0, none⟩ = some (.int .i64 m)
  syn : ∃ tp p, w.var? Tryd.prog "strconv.ErrSyntax" = some #[.iface tp p]
  rng : ∃ tp p, w.var? Tryd.prog "strconv.ErrRange" = some #[.iface tp p]
  pow : Lib.TabIs Tryd.prog w "internal/strconv.uint64pow10" .u64 Lib.pow10Tab

theorem var_below {P : Program} {n : String} {g : Nat} {cs : Array Value} {w w' : World} (hg : P.globalNamed n = some g) (h : w.var? P n = some cs) (hb : Below w.heap.size w w') : w'.var? P n = some cs := by
  unfold World.var? at h ⊢
  rw [hg] at h ⊢
  simp only [Option.bind_some] at h ⊢
  have hlt : g < w.heap.size := by
    rcases Nat.lt_or_ge g w.heap.size with h' | h'
    · exact h'
    · rw [Array.getElem?_eq_none h'] at h; cases h
  rw [hb.block g hlt]
  exact h
theorem gSyn : Tryd.prog.globalNamed "strconv.ErrSyntax" = some 0 := by kernel_rfl
theorem gRng : Tryd.prog.globalNamed "strconv.ErrRange" = some 1 := by kernel_rfl
theorem gPow : Tryd.prog.globalNamed "internal/strconv.uint64pow10" = some 2 := by kernel_rfl
theorem Vars.below {w w' : World} (h : Vars w) (hb : Below w.heap.size w w') : Vars w' := by
  obtain ⟨⟨m, hm⟩, ⟨t1, p1, h1⟩, ⟨t2, p2, h2⟩, h3⟩ := h
  refine ⟨⟨m, ?_⟩, ⟨t1, p1, var_below gSyn h1 hb⟩, ⟨t2, p2, var_below gRng h2 hb⟩, var_below gPow h3 hb⟩
  rw [hb.cell (World.block_lt_of_cell? w _ hm)]; exact hm

theorem appU_any (B n u : Nat) (hu : u < 18446744073709551616) (sv : Value) (xs : List Value) (w : World) (hown : w.ownsRow B 5 1 sv n xs) (hB : B ≤ w.heap.size) (hl : n + 20 ≤ 140737488355328) (hV : Vars w) :
    Calls Tryd.prog 29 #[sv, .int .u64 u, .int .i64 10] w fun e w' => ∃ v', e = .returned v' ∧ w'.ownsRow B 5 1 v' (n + (dg u).length) (xs ++ Lib.byteCells (dg u)) ∧ Below B w w' := by
  go_enter Tryd.func29, Tryd.ntmps29
  go_wp2_with fail
  refine (Tryd.internal_strconv_AppendUint_10 B n u hu sv xs w hown hB hl hV.pow).mono ?_
  rintro e w1 ⟨v', rfl, h1, h2, _⟩
  go_wp2
  go_ret
  exact ⟨_, rfl, h1, h2⟩

/-- what the first numbers are as a text -/
def jU (l : List Nat) (k : Nat) : List UInt8 := if k = 0 then [] else joinTo l (k - 1)
theorem jU_zero (l : List Nat) : jU l 0 = [] := rfl
theorem jU_one (l : List Nat) : jU l 1 = dg (el l 0) := by unfold jU; rw [if_neg (by omega)]; exact joinTo_zero l
theorem jU_succ {l : List Nat} {k : Nat} (h0 : 0 < k) (h : k < l.length) : jU l (k + 1) = (jU l k ++ [ch 46]) ++ dg (el l k) := by
  unfold jU
  rw [if_neg (by omega), if_neg (by omega)]
  obtain ⟨j, rfl⟩ : ∃ j, k = j + 1 := ⟨k - 1, by omega⟩
  rw [show j + 1 + 1 - 1 = j + 1 by omega, show j + 1 - 1 = j by omega, joinTo_succ h]
  simp
theorem jU_len {l : List Nat} (hu : Under 4294967296 l) (k : Nat) (hk : k ≤ l.length) : (jU l k).length ≤ 11 * k := by
  unfold jU
  split
  · simp
  · have := joinTo_len hu (k - 1) (by omega); omega
theorem jU_full {l : List Nat} (hf : fitB l = true) (h2 : 2 ≤ l.length) : jU l l.length = textS l := by
  unfold jU; rw [if_neg (by omega), text_some hf]

theorem text_pos {l : List Nat} (hf : fitB l = true) : 0 < (textS l).length := by
  rw [text_some hf]
  unfold joinTo
  rw [List.length_append]
  have := dg_pos (el l 0)
  omega
set_option maxRecDepth 100000 in
set_option maxHeartbeats 2000000 in
theorem text_any (v : Value) (l : List Nat) (w : World) (h : Row .u32 4294967296 w v l) (hV : Vars w) :
    Calls Tryd.prog 18 #[v] w fun e w' => e = .returned (str (textS l)) ∧ Below w.heap.size w w' := by
  have h' := h
  obtain ⟨a, cap, rfl, h1, h2, h3, h4⟩ := h
  unfold maxLen at h2
  obtain ⟨i0, hi, hz0, hz1, hz2⟩ := info_parts Tryd.info5
  have hc := fit_any _ l w h'
  cases hf : fitB l with
  | false =>
    rw [text_none hf]
    rw [hf] at hc
    clear h3
    go_enter Tryd.func18, Tryd.ntmps18
    go_wp2_with (first | (go_at_call 10; refine hc.mono ?_; rintro e w1 ⟨rfl, rfl⟩) | fail)
    go_ret
    exact ⟨rfl, Below.refl _ _⟩
  | true =>
    rw [hf] at hc
    have hl2 : 2 ≤ l.length := by unfold fitB at hf; have := of_decide_eq_true hf; omega
    have hl20 : l.length ≤ 20 := by unfold fitB at hf; have := of_decide_eq_true hf; omega
    have HT := hide (jU_full hf hl2)
    obtain ⟨b, off, rfl, hcell⟩ := h3 (by omega)
    clear h3 hcell
    go_enter Tryd.func18, Tryd.ntmps18
    go_wp2_with (first
      | (go_at_call 10; refine hc.mono ?_; rintro e w1 ⟨rfl, rfl⟩)
      | fail)
    go_loopw [3, 11] (fun s i wr => ∃ k : Nat, k ≤ l.length ∧ i = .int .i64 k ∧ wr.ownsRow w1.heap.size 5 1 s (jU l k).length (Lib.byteCells (jU l k)) ∧ Below w1.heap.size w1 wr) (fun _ i _ => l.length - (intOf i).toNat)
    case atStart => exact ⟨0, by omega, rfl, World.ownsRow_nil _ _ _ _, Below.refl _ _⟩
    case round =>
      obtain ⟨k, hk, rfl, how, hbr⟩ := hrel
      have hsz := hbr.size
      have hjl := jU_len h4 k hk
      by_cases hlt : k < l.length
      · obtain ⟨_, _, hee, _, _, hcc, _⟩ := h'.below hbr
        simp only [Value.slice.injEq, true_and] at hee
        obtain ⟨rfl, rfl⟩ := hee
        obtain ⟨_, _, hab, hcell⟩ := hcc (by omega)
        simp only [Option.some.injEq, Addr.mk.injEq, and_true] at hab
        obtain ⟨rfl, rfl⟩ := hab
        have ck : wr.cell? ⟨b, off + k, none⟩ = some (.int .u32 (el l k)) := hcell k hlt
        clear hcell hcc
        have hx := el_lt h4 (by decide) k
        by_cases h0 : k = 0
        · subst h0
          have ck0 : wr.cell? ⟨b, off, none⟩ = some (.int .u32 (el l 0)) := ck
          have HJ : Hid (jU l (0 + 1) = dg (el l 0)) := hide (jU_one l)
          go_wp2_with (first
            | (go_at_call 29; refine (appU_any _ _ _ (by omega) _ _ _ how hsz (by omega) (hV.below hbr)).mono ?_; rintro e w5 ⟨v5, rfl, ho5, hb5⟩)
            | fail)
          exact ⟨⟨0 + 1, by omega, by simp, by rw [HJ.out]; simpa [jU_zero, Lib.byteCells] using ho5, hbr.trans hb5⟩, by simp [intOf]; omega⟩
        · have h0' : (0 : Int) < (k : Int) := by omega
          have HJ : Hid (jU l (k + 1) = (jU l k ++ [ch 46]) ++ dg (el l k)) := hide (jU_succ (by omega) hlt)
          go_wp2_with (first
            | (at_builtin; refine wpList_append_own _ rfl _ _ 24 rfl w1.heap.size 5 i0 (.int .u8 0) 1 1 Tryd.underlying24 hi hz0 hz1 hz2 rfl (by decide) _ _ _ rfl (how.alloc _) ⟨wr.heap.size, 0, none⟩ 1 1 (vals .u8 [46]) rfl rfl (app_cells wr .u8 46 _ _ rfl) (vals_one _ _) (by unfold maxLen; omega) (by omega) (by simp; omega) ?_; intro v4 w4 how4 hgrow4 _; have hb4 := below_append hbr hsz how _ hgrow4)
            | (go_at_call 29; refine (appU_any _ _ _ (by omega) _ _ _ how4 hb4.size (by omega) (hV.below hb4)).mono ?_; rintro e w5 ⟨v5, rfl, ho5, hb5⟩)
            | fail)
          have ho6 : w5.ownsRow w1.heap.size 5 1 v5 ((jU l k ++ [ch 46]) ++ dg (el l k)).length (Lib.byteCells ((jU l k ++ [ch 46]) ++ dg (el l k))) := by
            rw [Lib.byteCells_append, Lib.byteCells_append, List.length_append, List.length_append]
            exact ho5
          exact ⟨⟨k + 1, by omega, by simp, by rw [HJ.out]; exact ho6, hb4.trans hb5⟩, by simp [intOf]; omega⟩
      · have hkk : k = l.length := by omega
        subst hkk
        rw [HT.out] at how
        obtain ⟨g, co, rfl, _⟩ := row_form how (text_pos hf)
        have hcv := run_convert_bytes_back (P := Tryd.prog) wr 24 9 5 ⟨g, 0, none⟩ co (textS l) Tryd.underlying24 Tryd.underlying5 Tryd.underlying9 (bc_cells _ _ _ (how.cells rfl))
        go_wp2
        go_ret
        exact ⟨rfl, hbr⟩
end Go.Proofs.YtpmdbbmichncmaaDoor
