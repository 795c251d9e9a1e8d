/- Steps for keccak.ended: fields, a slice of one byte, an alloc, a whole store. -/
import Derived.Test.YtpmobjfhhkglbaaDoorPlan2
import Derived.Test.YtpmobjfhhkglbaaDoorCPe
import Derived.Test.YtpmobjfhhkglbaaDoorCBk
import Derived.Test.YtpmobjfhhkglbaaDoorHSl
import Derived.Lib.MinMax
namespace Go.Proofs.YtpmobjfhhkglbaaDoor
open Go.RowKit
set_option linter.unusedVariables false
set_option linter.unusedSimpArgs false

theorem Sg.but {w w' : World} {q g : Nat} {kind : Int} {ws : List Nat} {p : Int} {o : Bool} (h : Sg w q kind ws p o) (hb : But g w w') (hn : q ≠ g) : Sg w' q kind ws p o := by
  have hk := hb.block q h.lt hn
  refine ⟨fun j v hv => ?_, fun j hj => ?_, h.len⟩
  · rw [World.cell?_of_block (a := ⟨q, 0 + j, none⟩) hk]; exact h.all j v hv
  · rw [World.cell?_of_block (a := ⟨q, 0 + j, none⟩) hk, World.frozen?_of_block (a := ⟨q, 0 + j, none⟩) hk]; exact h.th j hj
section
variable {ops : Array Oper} {Q : Exit → Act → World → Prop} {S : World → Prop} {K : Act → World → Prop}
theorem y_field {o : Oper} {a : Act} {x : Operand} {q f off : Nat} (hg : o.guard = none) (ho : o.op = .fieldAddr 70 x f) (hx : a.eval x = .pointer (some ⟨q, 0, none⟩))
    (hf : ∀ w : World, (Instr.fieldAt 70 (.pointer (some ⟨q, 0, none⟩)) f).run Tryd.prog w = .ok (.pointer (some ⟨q, off, none⟩)) w) : YieldsIf Tryd.prog ops S o (.pointer (some ⟨q, off, none⟩)) a := by
  refine y_of hg fun w _ => ?_
  unfold execOp
  simp only [ho, hx]
  simp [hf w, Sem.run_bind]
theorem field0 (q : Nat) (w : World) : (Instr.fieldAt 70 (.pointer (some ⟨q, 0, none⟩)) 0).run Tryd.prog w = .ok (.pointer (some ⟨q, 0, none⟩)) w := by simp [go_sem]
theorem field1 (q : Nat) (w : World) : (Instr.fieldAt 70 (.pointer (some ⟨q, 0, none⟩)) 1).run Tryd.prog w = .ok (.pointer (some ⟨q, 1, none⟩)) w := by simp [go_sem]
theorem field2 (q : Nat) (w : World) : (Instr.fieldAt 70 (.pointer (some ⟨q, 0, none⟩)) 2).run Tryd.prog w = .ok (.pointer (some ⟨q, 26, none⟩)) w := by simp [go_sem]
/-- an operation that yields a value and a new world -/
theorem p_op {i : Nat} {o : Oper} {a : Act} {w w' : World} {v : Value} (hi : ops[i]? = some o) (hg : o.guard = none) (hr : (execOp a.eval o).run Tryd.prog w = .ok (.value v) w') (h : K (a.put o.dst v) w') : wpOp Tryd.prog ops Q i K a w := by
  unfold wpOp
  simp only [hi]
  rw [if_pos (wanted_free hg)]
  left
  unfold Oper.wp
  rw [hr]
  exact h
theorem p_one {i : Nat} {o : Oper} {a : Act} {w : World} {x : Operand} {c : Nat} (hi : ops[i]? = some o) (hg : o.guard = none) (ho : o.op = .buildSlice 26 1 #[(0, x)]) (hx : a.eval x = .int .u8 (c : Nat))
    (h : K (a.put o.dst (.slice (some ⟨w.heap.size, 0, none⟩) 1 1)) (w.alloc (.cells #[.int .u8 (c : Nat)] 5))) : wpOp Tryd.prog ops Q i K a w := by
  refine p_op hi hg ?_ h
  unfold execOp
  simp only [ho, List.map_toArray, List.map_cons, List.map_nil, hx]
  simp [go_sem]
theorem p_allocK {i : Nat} {o : Oper} {a : Act} {w : World} (hi : ops[i]? = some o) (hg : o.guard = none) (ho : o.op = .alloc 68)
    (h : K (a.put o.dst (.pointer (some ⟨w.heap.size, 0, none⟩))) (w.alloc (.cells (arr .u64 (zs 25)) 68))) : wpOp Tryd.prog ops Q i K a w := by
  have hz := zero25
  refine p_op hi hg ?_ h
  unfold execOp
  simp only [ho]
  simp [go_sem, hz]
theorem p_row {i : Nat} {o : Oper} {a : Act} {w : World} {t : TypeId} {x y : Operand} {g : Nat} {cells old : Array Value} {t' : TypeId} (hi : ops[i]? = some o) (hg : o.guard = none) (ho : o.op = .store t x y) (hd : o.dst = none) (hx : a.eval x = .pointer (some ⟨g, 0, none⟩)) (hy : a.eval y = .agg cells)
    (hb : w.heap[g]? = some (.cells old t' (0, 0))) (hs : (Tryd.prog.info? t).map (·.size) = some cells.size) (hold : old.size = cells.size) (h1 : cells.all (·.oneCell') = true)
    (h : K a (w.setRow g cells)) : wpOp Tryd.prog ops Q i K a w := by
  unfold wpOp
  simp only [hi]
  rw [if_pos (wanted_free hg)]
  left
  refine wp_store_row t x y ho g cells hx hy t' old hb hs hold h1 ?_
  rw [hd]
  exact h
end
theorem built_sponge (kind : Int) (M : List Nat) (h : M.length = 25) : Tryd.prog.built 70 [(0, .int .i64 kind), (1, .agg (arr .u64 M)), (3, .bool true)] = some (sl kind M 0 true).toArray := by
  obtain ⟨a0, a1, a2, a3, a4, a5, a6, a7, a8, a9, a10, a11, a12, a13, a14, a15, a16, a17, a18, a19, a20, a21, a22, a23, a24, rfl⟩ := list25 M h
  kernel_rfl
theorem y_sponge {ops : Array Oper} {S : World → Prop} {o : Oper} {a : Act} {x y : Operand} {kind : Int} {M : List Nat} (hg : o.guard = none) (ho : o.op = .build 70 #[(0, x), (1, y), (3, .const (.bool true))]) (hx : a.eval x = .int .i64 kind) (hy : a.eval y = .agg (arr .u64 M)) (hM : M.length = 25) :
    YieldsIf Tryd.prog ops S o (.agg (sl kind M 0 true).toArray) a := by
  refine y_of hg fun w _ => ?_
  have hb := run_build (P := Tryd.prog) w 70 #[(0, .int .i64 kind), (1, .agg (arr .u64 M)), (3, .bool true)] _ (built_sponge kind M hM)
  unfold execOp
  simp only [ho, List.map_toArray, List.map_cons, List.map_nil, hx, hy, ev_const]
  simp [Sem.run_bind, hb]
end Go.Proofs.YtpmobjfhhkglbaaDoor

/- Contract of keccak.taken. -/
namespace Go.Proofs.YtpmobjfhhkglbaaDoor
open Go.RowKit
set_option linter.unusedVariables false
set_option linter.unusedSimpArgs false

/-- a made row's block, and the other way round -/
theorem own_lies {k : IntKind} {e : TypeId} {w : World} {base g n : Nat} {l : List Nat} (h : w.ownsRow base e 1 (.slice (some ⟨g, 0, none⟩) n n) n (vals k l)) : Lies k e w g l ∧ base ≤ g := by
  obtain ⟨h1, h2 | ⟨g', cap, cur, he, hb, hc, h3, h4, h5, h6⟩⟩ := h
  · simp at h2
  · simp only [Value.slice.injEq, Option.some.injEq, Addr.mk.injEq, true_and, and_true] at he
    obtain ⟨rfl, rfl⟩ := he
    refine ⟨?_, hb⟩
    unfold Lies arr
    rw [hc, ← h6, List.take_of_length_le (by simp [h5])]
theorem lies_own {k : IntKind} {e : TypeId} {w : World} {base g n : Nat} {l : List Nat} (h : Lies k e w g l) (hl : l.length = n) (hb : base ≤ g) (hn : n ≤ maxLen) : w.ownsRow base e 1 (.slice (some ⟨g, 0, none⟩) n n) n (vals k l) :=
  ⟨by rw [vals_length, hl, Nat.mul_one], .inr ⟨g, n, arr k l, rfl, hb, h, Nat.le_refl _, hn, by rw [arr_size, hl, Nat.mul_one], by unfold arr; rw [List.take_of_length_le (by rw [vals_length]; omega)]⟩⟩
theorem out_is (A : List Nat) (P : Nat) : outB (A, P) = el A (P / 8) / 2 ^ (8 * (P % 8)) % 256 := rfl
theorem sqzB_next (rate : Nat) (s : List Nat × Nat) (k : Nat) : sqzB rate s (k + 1) = sqzB rate s k ++ [outB (fresh rate (sqzS rate s k))] := rfl
/-- where the loop of blocks stands -/
def CTks (w : World) (kind : Int) (s0 : List Nat × Nat) (n : Nat) (u : Value) (wr : World) : Prop := ∃ (k : Nat) (A : Option Addr), k ≤ n ∧ u = .slice A (n - k) (n - k) ∧ (k < n → A = some ⟨w.heap.size + 2, k, none⟩) ∧ Sg wr w.heap.size kind (sqzS (rateK kind) s0 k).1 ((sqzS (rateK kind) s0 k).2 : Nat) true ∧ Lies .u8 5 wr (w.heap.size + 2) (pad n (sqzB (rateK kind) s0 k)) ∧ wr.heap[w.heap.size + 1]? = some (.cells (sl 0 (zs 25) 0 false).toArray 70 (0, 0)) ∧ Below w.heap.size w wr
/-- where the loop of bytes stands -/
def CTki (w x : World) (kind : Int) (s0 : List Nat × Nat) (n k F : Nat) (i : Value) (wr : World) : Prop := ∃ j : Nat, j ≤ F ∧ i = .int .i64 j ∧ Lies .u8 5 wr (w.heap.size + 2) (pad n (sqzB (rateK kind) s0 (k + j))) ∧ But (w.heap.size + 2) x wr

set_option maxHeartbeats 4000000 in
set_option maxRecDepth 100000 in
theorem taken_none (kind : Int) (ws : List Nat) (p : Int) (w : World) (hl : ws.length = 25) :
    Calls Tryd.prog 55 #[.agg (sl kind ws p true).toArray, .int .i64 0] w fun e w' => e = .returned (.tuple #[.agg (sl kind ws p true).toArray, .slice none 0 0]) ∧ Below w.heap.size w w' := by
  have hz := zero28
  have hS : Sg ((w.alloc (.cells (sl kind ws p true).toArray 70)).alloc (.cells (sl 0 (zs 25) 0 false).toArray 70)) w.heap.size kind ws p true := (Sg.new w 70 kind ws p true hl).below (keep_alloc _ _)
  have hR : ((w.alloc (.cells (sl kind ws p true).toArray 70)).alloc (.cells (sl 0 (zs 25) 0 false).toArray 70)).heap[w.heap.size + 1]? = some (.cells (sl 0 (zs 25) 0 false).toArray 70 (0, 0)) := by
    have := heap_alloc_last (w.alloc (.cells (sl kind ws p true).toArray 70)) (.cells (sl 0 (zs 25) 0 false).toArray 70)
    rw [World.size_alloc] at this
    exact this
  have hb := keep_trans (keep_alloc w (.cells (sl kind ws p true).toArray 70)) (keep_alloc _ (.cells (sl 0 (zs 25) 0 false).toArray 70))
  have hll := hS.all
  have hsz : (sl kind ws p true).toArray.size = 28 := by simp [sl_len hl]
  have hsz0 : (sl 0 (zs 25) 0 false).toArray.size = 28 := by simp [sl_len (zs_len 25)]
  go_enter Tryd.func55, Tryd.ntmps55
  go_wp2_with (first
    | (refine wpList_load_mid rfl 70 _ (by rfl) w.heap.size 0 (by rfl) (sl kind ws p true) _ hll Tryd.underlying70 rfl (by rw [sl_len hl]; kernel_rfl) ?_)
    | (refine wpList_store_row rfl 70 _ _ (by rfl) (w.heap.size + 1) (sl kind ws p true).toArray (by rfl) (by rfl) _ _ hR (by rw [hsz]; kernel_rfl) (by rw [hsz, hsz0]) (all_oneCell_toArray (sl_one _ _ _ _)) ?_)
    | fail)
  have hfu := setRow_heap ((w.alloc (.cells (sl kind ws p true).toArray 70)).alloc (.cells (sl 0 (zs 25) 0 false).toArray 70)) (w.heap.size + 1) _ (sl kind ws p true).toArray 70 _ hR
  have hlv := run_loadVar_row (P := Tryd.prog) _ (w.heap.size + 1) _ 70 _ _ _ hfu Tryd.underlying70 rfl (by rw [hsz]; kernel_rfl)
  have hbf := hb.trans ((But.setRow (But.refl (w.heap.size + 1) _) (sl kind ws p true).toArray).below (by omega) hb.size)
  refine bodyPost_ret (v := .tuple #[.agg (sl kind ws p true).toArray, .slice none 0 0]) ?_ rfl ⟨rfl, hbf⟩
  simp [results, Tryd.results55, asAddr, hlv]

set_option maxHeartbeats 8000000 in
set_option maxRecDepth 100000 in
theorem taken_any (kind : Int) (ws : List Nat) (p n : Nat) (w : World) (hT : Csts w) (hw : W25 ws) (hr : 0 < rateK kind) (hp : p ≤ rateK kind) (hn : n ≤ 16777216) (h0 : 0 < n) :
    Calls Tryd.prog 55 #[.agg (sl kind ws p true).toArray, .int .i64 n] w fun e w' => ∃ v, e = .returned (.tuple #[.agg (sl kind (sqzS (rateK kind) (ws, p) n).1 ((sqzS (rateK kind) (ws, p) n).2 : Nat) true).toArray, v]) ∧ Own 5 .u8 256 w' w.heap.size v (sqzB (rateK kind) (ws, p) n) ∧ Below w.heap.size w w' := by
  have hz := zero28
  have hl := hw.1
  have hrt := rateK_le kind
  obtain ⟨i0, hi, hz0, hz1, hz2⟩ := info_parts Tryd.info5
  have hS : Sg ((w.alloc (.cells (sl kind ws p true).toArray 70)).alloc (.cells (sl 0 (zs 25) 0 false).toArray 70)) w.heap.size kind ws p true := (Sg.new w 70 kind ws p true hl).below (keep_alloc _ _)
  have hR : ((w.alloc (.cells (sl kind ws p true).toArray 70)).alloc (.cells (sl 0 (zs 25) 0 false).toArray 70)).heap[w.heap.size + 1]? = some (.cells (sl 0 (zs 25) 0 false).toArray 70 (0, 0)) := by
    have := heap_alloc_last (w.alloc (.cells (sl kind ws p true).toArray 70)) (.cells (sl 0 (zs 25) 0 false).toArray 70)
    rw [World.size_alloc] at this
    exact this
  have hb := keep_trans (keep_alloc w (.cells (sl kind ws p true).toArray 70)) (keep_alloc _ (.cells (sl 0 (zs 25) 0 false).toArray 70))
  have hW : ((w.alloc (.cells (sl kind ws p true).toArray 70)).alloc (.cells (sl 0 (zs 25) 0 false).toArray 70)).heap.size = w.heap.size + 2 := by simp
  have c0 := hS.kind
  have hrk := fun w' => block_any kind w'
  have hsz0 : (sl 0 (zs 25) 0 false).toArray.size = 28 := by simp [sl_len (zs_len 25)]
  have hne : ((n : Int) == 0) = false := by rw [beq_eq_false_iff_ne]; omega
  have hne2 : (n == 0) = false := by rw [beq_eq_false_iff_ne]; omega
  have hne3 : ¬ n = 0 := by omega
  go_enter Tryd.func55, Tryd.ntmps55
  go_wp2_with (first
    | (go_at_call 50; refine (hrk _).mono ?_; rintro e w2 ⟨rfl, rfl⟩)
    | (at_make; refine wpList_make_full _ rfl _ _ 26 rfl w.heap.size 5 i0 (.int .u8 0) 1 Tryd.underlying26 hi hz0 hz1 _ _ _ _ n rfl rfl rfl rfl (by rw [hz2]; omega) (by unfold maxLen; omega) (by simp; omega) ?_; intro w1 hown hgrow)
    | fail)
  rw [made_u8] at hown
  have hbg := (Below.refl ((w.alloc (.cells (sl kind ws p true).toArray 70)).alloc (.cells (sl 0 (zs 25) 0 false).toArray 70)).heap.size ((w.alloc (.cells (sl kind ws p true).toArray 70)).alloc (.cells (sl 0 (zs 25) 0 false).toArray 70))).grown hgrow (Nat.le_refl _) (fun k h => by cases h)
  have hS1 := hS.below hbg
  have hR1 := (hbg.block _ (by rw [hW]; omega)).trans hR
  have hb1 := keep_trans hb hbg
  have hO1 := (own_lies hown).1
  rw [hW] at hO1
  have hO1 : Lies .u8 5 w1 (w.heap.size + 2) (pad n (sqzB (rateK kind) (ws, p) 0)) := by
    have e : pad n (sqzB (rateK kind) (ws, p) 0) = List.replicate n 0 := by simp [pad, sqzB]
    rw [e]; exact hO1
  try simp only [hW]
  clear hz c0 hS hR hb hown hgrow hbg hW hrk hne hne2 hne3 hi hz0 hz1 hz2
  go_loopw [8] (fun u wr => CTks w kind (ws, p) n u wr) (fun u _ => slen u)
  case atStart => exact ⟨0, some ⟨w.heap.size + 2, 0, none⟩, Nat.zero_le _, rfl, fun _ => rfl, hS1, hO1, hR1, hb1⟩
  case round =>
    clear hS1 hO1 hR1 hb1
    obtain ⟨k, ua, hk, rfl, hua, hS, hO, hR, hbr⟩ := hrel
    by_cases hlt : k < n
    · obtain rfl := hua hlt
      have hsw : W25 (sqzS (rateK kind) (ws, p) k).1 := sqzS_w hw k
      have hsa : (sqzS (rateK kind) (ws, p) k).2 ≤ rateK kind := sqzS_at hr hp k
      have hSP := fun m => sqzS_parts (rateK kind) (ws, p) k m
      obtain ⟨Lk, hLk⟩ : ∃ x, x = sqzS (rateK kind) (ws, p) k := ⟨_, rfl⟩
      rw [← hLk] at hS hsw hsa
      simp only [← hLk] at hSP
      obtain ⟨A0, P0⟩ := Lk
      dsimp only at hS hsw hsa
      obtain ⟨rr, hrr⟩ : ∃ x : Nat, x = n - k := ⟨_, rfl⟩
      simp only [← hrr]
      have hrp : 0 < rr := by omega
      have hrpi : (0 : Int) < (rr : Int) := by omega
      have HRR := hide hrr
      have hrn : rr ≤ 16777216 := by omega
      clear hrr
      have c26 := hS.at
      have hwd := hS.words
      clear hLk hua
      by_cases hfull : P0 = rateK kind
      · have hbe : ((P0 : Int) == ((rateK kind : Nat) : Int)) = true := by rw [hfull]; exact beq_self_eq_true _
        have hfr : fresh (rateK kind) (A0, P0) = (perm A0, 0) := by unfold fresh; rw [if_pos hfull]
        have hqw := perm_w hsw
        have hprm := fun w' (hT' : Csts w') => perm_any A0 w' hT' hsw
        have hvx : (vals .u64 A0).length = 25 := by rw [vals_length, hsw.1]
        generalize perm A0 = A at *
        have hql := hqw.1
        have hqs : (arr .u64 A).size = 25 := by rw [arr_size, hql]
        obtain ⟨D, hD⟩ : ∃ x : Nat, x = rateK kind := ⟨_, rfl⟩
        obtain ⟨P, hP⟩ : ∃ x : Nat, x = 0 := ⟨_, rfl⟩
        have r_D : IntKind.i64.wrap ((rateK kind : Nat) : Int) = ((rateK kind : Nat) : Int) := by rw [IntKind.wrap_i64]; omega
        have hDP : D = rateK kind - P := by omega
        obtain ⟨F, hF⟩ : ∃ x : Nat, x = min rr D := ⟨_, rfl⟩
        have y3 : min (rr : Int) ((rateK kind : Nat) : Int) = (F : Int) := by omega
        have y4 : min rr (rateK kind) = F := by omega
        have HFR := hide hfr
        have HDP := hide hDP
        have HF := hide hF
        have HFL := hide hfull
        have HP := hide hP
        clear hfr hDP hF hfull hD hP
        go_wp2_with (first
          | (refine wpList_load_mid rfl 68 _ (by rfl) w.heap.size 1 (by rfl) (vals .u64 A0) (.array 25 49) hwd (by kernel_rfl) rfl (by rw [hvx]; kernel_rfl) ?_)
          | (go_at_call 53; refine (hprm _ (hT.below hbr)).mono ?_; rintro e w6 ⟨rfl, hb7⟩; have hS7 := hS.below hb7; have hth6 : w6.there w.heap.size 1 (arr .u64 A).size := fun j hj => (by rw [hqs] at hj; have := hS7.th (1 + j) (by omega); rw [Nat.zero_add] at this; exact this))
          | (refine wpList_store_mid rfl 68 _ _ (by rfl) w.heap.size 1 (arr .u64 A) (by rfl) (by rfl) hth6 (by rw [hqs]; kernel_rfl) (arr_one _ _) ?_; have hS8 : Sg (w6.setCells w.heap.size 1 (arr .u64 A).toList) w.heap.size kind A P0 true := hS7.setWords _ hql; have c26 := hS8.at; have f26 := hS8.frozen 26 (by decide))
          | fail)
        have hS9 := hS8.setAt 0
        have hBu : But w.heap.size w6 ((w6.setCells w.heap.size 1 (arr .u64 A).toList).setCell ⟨w.heap.size, 26, none⟩ (.int .i64 0)) := ((But.refl _ _).setCells _ _).setCell _ _
        have hR9 := (hBu.block (w.heap.size + 1) (heap_lt ((hb7.block _ (heap_lt hR)).trans hR)) (by omega)).trans ((hb7.block _ (heap_lt hR)).trans hR)
        have hO9 := (hO.below hb7).but hBu (by omega)
        have hb9 := (keep_trans hbr hb7).trans (hBu.below (Nat.le_refl _) (keep_trans hbr hb7).size)
        have hpz : (0 : Int) = (P : Int) := by have := HP.out; omega
        clear hS8 hS7 c26 f26 hth6 hS hR hO hbr hb7 hBu hwd
        generalize (w6.setCells w.heap.size 1 (arr .u64 A).toList).setCell ⟨w.heap.size, 26, none⟩ (.int .i64 0) = x2 at *
        have hS9 : Sg x2 w.heap.size kind A (P : Int) true := by rw [← hpz]; exact hS9
        have hF2 : fresh (rateK kind) (A0, P0) = (A, P) := by rw [HFR.out, HP.out]
        have HF2 := hide hF2
        clear hF2 HFR HFL HP hpz hsw hvx hprm
        have hFD : F ≤ D := by have := HF.out; omega
        have hFr : F ≤ rr := by have := HF.out; omega
        have hF0 : 0 < F := by have := HF.out; have := HDP.out; omega
        have hPF : P + F ≤ rateK kind := by have := HDP.out; omega
        have hsr := sqz_run (rate := rateK kind) (A0, P0)
        have hss := sqzS_run (rate := rateK kind) (A0, P0) F hF0
        rw [HF2.out] at hsr hss
        dsimp only at hsr hss
        have hss2 := hss hPF
        have hnx := hSP F
        rw [hss2] at hnx
        have hbyte : ∀ i, i < F → sqzB (rateK kind) (ws, p) (k + i + 1) = sqzB (rateK kind) (ws, p) (k + i) ++ [el A ((P + i) / 8) / 2 ^ (8 * ((P + i) % 8)) % 256] := fun i hi => by
          rw [sqzB_next, hSP i, hsr i (by omega), out_is]
        have HBY := hide hbyte
        have HNX := hide hnx
        clear hsr hss hss2 hnx hbyte hSP HF2
        have hkF : k + F ≤ n := by have := HRR.out; omega
        have hrF : rr - F = n - (k + F) := by have := HRR.out; omega
        have HRF := hide hrF
        clear hrF
        have c26 := hS9.at
        go_loopw [41] (fun i wz => CTki w x2 kind (ws, p) n k F i wz) (fun i _ => F - (intOf i).toNat)
        case atStart => exact ⟨0, Nat.zero_le _, rfl, hO9, But.refl _ _⟩
        case round =>
          obtain ⟨j, hj, rfl, hOj, hBj⟩ := hrel
          have hSj := hS9.but hBj (by omega)
          have hbj := hb9.trans (hBj.below (by omega) hb9.size)
          have hRj := (hBj.block _ (heap_lt hR9) (by omega)).trans hR9
          clear c26
          have hOl : (sqzB (rateK kind) (ws, p) (k + j)).length = k + j := sqzB_length _ _ _
          by_cases hjl : j < F
          · have hby := HBY.out j hjl
            obtain ⟨Q, hQ⟩ : ∃ x : Nat, x = P + j := ⟨_, rfl⟩
            rw [← hQ] at hby
            obtain ⟨c, hc⟩ : ∃ x : Nat, x = Q / 8 := ⟨_, rfl⟩
            obtain ⟨m, hm⟩ : ∃ x : Nat, x = Q % 8 := ⟨_, rfl⟩
            obtain ⟨m8, hm8⟩ : ∃ x : Nat, x = 8 * m := ⟨_, rfl⟩
            obtain ⟨j1, hj1⟩ : ∃ x : Nat, x = j + 1 := ⟨_, rfl⟩
            rw [← hc, ← hm, ← hm8] at hby
            have e_j : (j : Int) + 1 = (j1 : Int) := by omega
            have r_j : IntKind.i64.wrap (j1 : Int) = (j1 : Int) := by rw [IntKind.wrap_i64]; omega
            have e_Q : (P : Int) + (j : Int) = (Q : Int) := by omega
            have r_Q : IntKind.i64.wrap (Q : Int) = (Q : Int) := by rw [IntKind.wrap_i64]; omega
            have e_c : (Q : Int) / 8 = (c : Int) := by omega
            have t_c : (Q : Int).tdiv 8 = (c : Int) := by rw [Int.tdiv_eq_ediv_of_nonneg (by omega)]; exact e_c
            have r_c : IntKind.i64.wrap (c : Int) = (c : Int) := by rw [IntKind.wrap_i64]; omega
            have e_m : (Q : Int) % 8 = (m : Int) := by omega
            have t_m : (Q : Int).tmod 8 = (m : Int) := by rw [Int.tmod_eq_emod_of_nonneg (by omega)]; exact e_m
            have r_m : IntKind.i64.wrap (m : Int) = (m : Int) := by rw [IntKind.wrap_i64]; omega
            have e_8 : 8 * (m : Int) = (m8 : Int) := by omega
            have r_8 : IntKind.i64.wrap (m8 : Int) = (m8 : Int) := by rw [IntKind.wrap_i64]; omega
            have mn : min m8 64 = m8 := by omega
            have i0 : (0 : Int) ≤ (c : Int) := Int.natCast_nonneg _
            have i1 : (c : Int) < 25 := by omega
            have i2 : (0 : Int) ≤ (m8 : Int) := Int.natCast_nonneg _
            have i3 : (0 : Int) ≤ (j : Int) := Int.natCast_nonneg _
            have i4 : (j : Int) < (rr : Int) := by omega
            have i5 : j < rr := by omega
            have c26 := hSj.at
            have cw : wr.cell? ⟨w.heap.size, 1 + c, none⟩ = some (.int .u64 (el A c : Nat)) := hSj.words c _ (vals_get _ _ _ (by rw [hql]; omega))
            have ce := hOj.cell (i := k + j) (by rw [pad_length (by omega)]; have := HRR.out; omega)
            have fe := hOj.frozen (k + j)
            have hst := hOj.set (k + j) (el A c / 2 ^ m8 % 256)
            have hps := pad_set (n := n) (l := sqzB (rateK kind) (ws, p) (k + j)) (by omega) (el A c / 2 ^ m8 % 256)
            rw [hOl, ← hby, Nat.add_assoc, ← hj1] at hps
            rw [hps] at hst
            have HST := hide hst
            have HJ1 := hide hj1
            have HBJ := hide (hBj.setCell (k + j) (.int .u8 ((el A c / 2 ^ m8 % 256 : Nat) : Int)))
            have hvu : ((el A c : Nat) : Int) / 2 ^ m8 % 256 = ((el A c / 2 ^ m8 % 256 : Nat) : Int) := by simp
            have HVU := hide hvu
            clear hvu
            clear hby hQ hc hm hm8 hj1 hst hps hSj hOj hBj hbj hRj hOl
            go_wp2
            rw [HVU.out]
            exact ⟨⟨j1, by have := HJ1.out; omega, rfl, HST.out, HBJ.out⟩, by have := HJ1.out; simp [intOf]; omega⟩
          · have hjF : j = F := by omega
            subst hjF
            obtain ⟨P1, hP1⟩ : ∃ x : Nat, x = P + j := ⟨_, rfl⟩
            have e_P : (P : Int) + (j : Int) = (P1 : Int) := by omega
            have r_P : IntKind.i64.wrap (P1 : Int) = (P1 : Int) := by rw [IntKind.wrap_i64]; omega
            have c26 := hSj.at
            have f26 := hSj.frozen 26 (by decide)
            obtain ⟨ub, hsf, hub⟩ := slice_from (some ⟨w.heap.size + 2, k, none⟩) rr rr j hFr (Nat.le_refl _)
            have hSf := hSj.setAt (P1 : Int)
            have hB5 : But w.heap.size wr (wr.setCell ⟨w.heap.size, 26, none⟩ (.int .i64 (P1 : Int))) := (But.refl _ _).setCell _ _
            have hO5 := hOj.but hB5 (by omega)
            have hR5 := (hB5.block _ (heap_lt hRj) (by omega)).trans hRj
            have hb5 := hbj.trans (hB5.below (Nat.le_refl _) hbj.size)
            have hN2 := HNX.out
            rw [← hP1] at hN2
            have HN2 := hide hN2
            have hua : k + j < n → ub = some ⟨w.heap.size + 2, k + j, none⟩ := fun hh => by
              rcases hub with ⟨_, hc⟩ | rfl
              · have := HRR.out; omega
              · simp [Addr.add]; omega
            have HUA := hide hua
            have HO5 := hide hO5
            have HR5 := hide hR5
            have HB5 := hide hb5
            have HSF := hide hSf
            clear hP1 hub hSf hB5 hO5 hR5 hb5 hN2 hua HNX hOj hRj hbj hSj HBY
            go_wp2
            refine ⟨⟨k + j, ub, hkF, by rw [HRF.out], HUA.out, by rw [HN2.out]; exact HSF.out, HO5.out, HR5.out, HB5.out⟩, ?_⟩
            show rr - j < rr
            omega
      · have hbe : ((P0 : Int) == ((rateK kind : Nat) : Int)) = false := by rw [beq_eq_false_iff_ne]; omega
        have hF2 : fresh (rateK kind) (A0, P0) = (A0, P0) := by unfold fresh; rw [if_neg hfull]
        obtain ⟨D, hD⟩ : ∃ x : Nat, x = rateK kind - P0 := ⟨_, rfl⟩
        have e_D : ((rateK kind : Nat) : Int) - (P0 : Int) = (D : Int) := by omega
        have r_D : IntKind.i64.wrap (D : Int) = (D : Int) := by rw [IntKind.wrap_i64]; omega
        obtain ⟨F, hF⟩ : ∃ x : Nat, x = min rr D := ⟨_, rfl⟩
        have y3 : min (rr : Int) (D : Int) = (F : Int) := by omega
        have y4 : min rr D = F := hF.symm
        have HF2 := hide hF2
        have HDP := hide hD
        have HF := hide hF
        have hqw := hsw
        have hql := hsw.1
        have hP0 : P0 < rateK kind := by omega
        clear hF2 hD hF hfull hwd hsw
        go_wp2
        have hS9 := hS
        have hR9 := hR
        have hO9 := hO
        have hb9 := hbr
        clear hS hR hO hbr c26
        have hFD : F ≤ D := by have := HF.out; omega
        have hFr : F ≤ rr := by have := HF.out; omega
        have hF0 : 0 < F := by have := HF.out; have := HDP.out; omega
        have hPF : P0 + F ≤ rateK kind := by have := HDP.out; omega
        have hsr := sqz_run (rate := rateK kind) (A0, P0)
        have hss := sqzS_run (rate := rateK kind) (A0, P0) F hF0
        rw [HF2.out] at hsr hss
        dsimp only at hsr hss
        have hss2 := hss hPF
        have hnx := hSP F
        rw [hss2] at hnx
        have hbyte : ∀ i, i < F → sqzB (rateK kind) (ws, p) (k + i + 1) = sqzB (rateK kind) (ws, p) (k + i) ++ [el A0 ((P0 + i) / 8) / 2 ^ (8 * ((P0 + i) % 8)) % 256] := fun i hi => by
          rw [sqzB_next, hSP i, hsr i (by omega), out_is]
        have HBY := hide hbyte
        have HNX := hide hnx
        clear hsr hss hss2 hnx hbyte hSP HF2
        have hkF : k + F ≤ n := by have := HRR.out; omega
        have hrF : rr - F = n - (k + F) := by have := HRR.out; omega
        have HRF := hide hrF
        clear hrF
        have c26 := hS9.at
        go_loopw [41] (fun i wz => CTki w wr kind (ws, p) n k F i wz) (fun i _ => F - (intOf i).toNat)
        case atStart => exact ⟨0, Nat.zero_le _, rfl, hO9, But.refl _ _⟩
        case round =>
          obtain ⟨j, hj, rfl, hOj, hBj⟩ := hrel
          have hSj := hS9.but hBj (by omega)
          have hbj := hb9.trans (hBj.below (by omega) hb9.size)
          have hRj := (hBj.block _ (heap_lt hR9) (by omega)).trans hR9
          clear c26
          have hOl : (sqzB (rateK kind) (ws, p) (k + j)).length = k + j := sqzB_length _ _ _
          by_cases hjl : j < F
          · have hby := HBY.out j hjl
            obtain ⟨Q, hQ⟩ : ∃ x : Nat, x = P0 + j := ⟨_, rfl⟩
            rw [← hQ] at hby
            obtain ⟨c, hc⟩ : ∃ x : Nat, x = Q / 8 := ⟨_, rfl⟩
            obtain ⟨m, hm⟩ : ∃ x : Nat, x = Q % 8 := ⟨_, rfl⟩
            obtain ⟨m8, hm8⟩ : ∃ x : Nat, x = 8 * m := ⟨_, rfl⟩
            obtain ⟨j1, hj1⟩ : ∃ x : Nat, x = j + 1 := ⟨_, rfl⟩
            rw [← hc, ← hm, ← hm8] at hby
            have e_j : (j : Int) + 1 = (j1 : Int) := by omega
            have r_j : IntKind.i64.wrap (j1 : Int) = (j1 : Int) := by rw [IntKind.wrap_i64]; omega
            have e_Q : (P0 : Int) + (j : Int) = (Q : Int) := by omega
            have r_Q : IntKind.i64.wrap (Q : Int) = (Q : Int) := by rw [IntKind.wrap_i64]; omega
            have e_c : (Q : Int) / 8 = (c : Int) := by omega
            have t_c : (Q : Int).tdiv 8 = (c : Int) := by rw [Int.tdiv_eq_ediv_of_nonneg (by omega)]; exact e_c
            have r_c : IntKind.i64.wrap (c : Int) = (c : Int) := by rw [IntKind.wrap_i64]; omega
            have e_m : (Q : Int) % 8 = (m : Int) := by omega
            have t_m : (Q : Int).tmod 8 = (m : Int) := by rw [Int.tmod_eq_emod_of_nonneg (by omega)]; exact e_m
            have r_m : IntKind.i64.wrap (m : Int) = (m : Int) := by rw [IntKind.wrap_i64]; omega
            have e_8 : 8 * (m : Int) = (m8 : Int) := by omega
            have r_8 : IntKind.i64.wrap (m8 : Int) = (m8 : Int) := by rw [IntKind.wrap_i64]; omega
            have mn : min m8 64 = m8 := by omega
            have i0 : (0 : Int) ≤ (c : Int) := Int.natCast_nonneg _
            have i1 : (c : Int) < 25 := by omega
            have i2 : (0 : Int) ≤ (m8 : Int) := Int.natCast_nonneg _
            have i3 : (0 : Int) ≤ (j : Int) := Int.natCast_nonneg _
            have i4 : (j : Int) < (rr : Int) := by omega
            have i5 : j < rr := by omega
            have c26 := hSj.at
            have cw : wr.cell? ⟨w.heap.size, 1 + c, none⟩ = some (.int .u64 (el A0 c : Nat)) := hSj.words c _ (vals_get _ _ _ (by rw [hql]; omega))
            have ce := hOj.cell (i := k + j) (by rw [pad_length (by omega)]; have := HRR.out; omega)
            have fe := hOj.frozen (k + j)
            have hst := hOj.set (k + j) (el A0 c / 2 ^ m8 % 256)
            have hps := pad_set (n := n) (l := sqzB (rateK kind) (ws, p) (k + j)) (by omega) (el A0 c / 2 ^ m8 % 256)
            rw [hOl, ← hby, Nat.add_assoc, ← hj1] at hps
            rw [hps] at hst
            have HST := hide hst
            have HJ1 := hide hj1
            have HBJ := hide (hBj.setCell (k + j) (.int .u8 ((el A0 c / 2 ^ m8 % 256 : Nat) : Int)))
            have hvu : ((el A0 c : Nat) : Int) / 2 ^ m8 % 256 = ((el A0 c / 2 ^ m8 % 256 : Nat) : Int) := by simp
            have HVU := hide hvu
            clear hvu
            clear hby hQ hc hm hm8 hj1 hst hps hSj hOj hBj hbj hRj hOl
            go_wp2
            rw [HVU.out]
            exact ⟨⟨j1, by have := HJ1.out; omega, rfl, HST.out, HBJ.out⟩, by have := HJ1.out; simp [intOf]; omega⟩
          · have hjF : j = F := by omega
            subst hjF
            obtain ⟨P1, hP1⟩ : ∃ x : Nat, x = P0 + j := ⟨_, rfl⟩
            have e_P : (P0 : Int) + (j : Int) = (P1 : Int) := by omega
            have r_P : IntKind.i64.wrap (P1 : Int) = (P1 : Int) := by rw [IntKind.wrap_i64]; omega
            have c26 := hSj.at
            have f26 := hSj.frozen 26 (by decide)
            obtain ⟨ub, hsf, hub⟩ := slice_from (some ⟨w.heap.size + 2, k, none⟩) rr rr j hFr (Nat.le_refl _)
            have hSf := hSj.setAt (P1 : Int)
            have hB5 : But w.heap.size wr (wr.setCell ⟨w.heap.size, 26, none⟩ (.int .i64 (P1 : Int))) := (But.refl _ _).setCell _ _
            have hO5 := hOj.but hB5 (by omega)
            have hR5 := (hB5.block _ (heap_lt hRj) (by omega)).trans hRj
            have hb5 := hbj.trans (hB5.below (Nat.le_refl _) hbj.size)
            have hN2 := HNX.out
            rw [← hP1] at hN2
            have HN2 := hide hN2
            have hua : k + j < n → ub = some ⟨w.heap.size + 2, k + j, none⟩ := fun hh => by
              rcases hub with ⟨_, hc⟩ | rfl
              · have := HRR.out; omega
              · simp [Addr.add]; omega
            have HUA := hide hua
            have HO5 := hide hO5
            have HR5 := hide hR5
            have HB5 := hide hb5
            have HSF := hide hSf
            clear hP1 hub hSf hB5 hO5 hR5 hb5 hN2 hua HNX hOj hRj hbj hSj HBY
            go_wp2
            refine ⟨⟨k + j, ub, hkF, by rw [HRF.out], HUA.out, by rw [HN2.out]; exact HSF.out, HO5.out, HR5.out, HB5.out⟩, ?_⟩
            show rr - j < rr
            omega
    · have hkn : k = n := by omega
      subst hkn
      generalize hs : sqzS (rateK kind) (ws, p) k = s at hS
      obtain ⟨A, P⟩ := s
      dsimp only at hS
      have HS := hide hs
      have hOl : (sqzB (rateK kind) (ws, p) k).length = k := sqzB_length _ _ _
      have hOu := sqzB_under (rateK kind) (ws, p) k
      rw [pad_full hOl] at hO
      have hll := hS.all
      have hsl := sl_len (kind := kind) (p := (P : Int)) (o := true) hS.len
      have hsz : (sl kind A P true).toArray.size = 28 := by simp [hsl]
      have hfu := setRow_heap wr (w.heap.size + 1) _ (sl kind A P true).toArray 70 _ hR
      have hB : But (w.heap.size + 1) wr (wr.setRow (w.heap.size + 1) (sl kind A P true).toArray) := But.setRow (But.refl (w.heap.size + 1) _) _
      have hbf := hbr.trans (hB.below (by omega) hbr.size)
      have hOf := hO.but hB (by omega)
      have hkk : k - k = 0 := Nat.sub_self k
      have hlv := run_loadVar_row (P := Tryd.prog) _ (w.heap.size + 1) _ 70 _ _ _ hfu Tryd.underlying70 rfl (by rw [hsz]; kernel_rfl)
      simp only [hkk]
      clear hs hua hkk
      have HOF := hide hOf
      clear hOf hO
      go_wp2_with (first
        | (refine wpList_load_mid rfl 70 _ (by rfl) w.heap.size 0 (by rfl) (sl kind A P true) _ hll Tryd.underlying70 rfl (by rw [hsl]; kernel_rfl) ?_)
        | (refine wpList_store_row rfl 70 _ _ (by rfl) (w.heap.size + 1) (sl kind A P true).toArray (by rfl) (by rfl) _ _ hR (by rw [hsz]; kernel_rfl) (by rw [hsz, hsz0]) (all_oneCell_toArray (sl_one _ _ _ _)) ?_)
        | fail)
      refine bodyPost_ret (v := .tuple #[.agg (sl kind A P true).toArray, .slice (some ⟨w.heap.size + 2, 0, none⟩) k k]) ?_ rfl ⟨_, by rw [HS.out], ⟨by rw [hOl]; exact lies_own HOF.out hOl (by omega) (by unfold maxLen; omega), hOu⟩, hbf⟩
      simp [results, Tryd.results55, asAddr, hlv]
end Go.Proofs.YtpmobjfhhkglbaaDoor
