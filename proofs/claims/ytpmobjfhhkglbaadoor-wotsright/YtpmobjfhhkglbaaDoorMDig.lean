/- The document's Size, Digest, block. -/
import Derived.Test.YtpmobjfhhkglbaaDoorHSum
import Derived.Test.YtpmobjfhhkglbaaDoorWyA
import Derived.Test.YtpmobjfhhkglbaaDoorWtM
import Derived.Test.YtpmobjfhhkglbaaDoorWyP
import Derived.Test.YtpmobjfhhkglbaaDoorHTak32
import Derived.Test.YtpmobjfhhkglbaaDoorBase
import Derived.Deep.AppendLies
import Derived.Laws.AppendOwnNone
import Derived.ArgAppend
import Derived.Test.YtpmobjfhhkglbaaDoorHAdd64
namespace Go.Proofs.YtpmobjfhhkglbaaDoor
open Go.RowKit
set_option linter.unusedVariables false
set_option linter.unusedSimpArgs false

/-- how many bytes a digest has -/
def sizeD (kind : Int) : Nat := if kind = 1 then 32 else if kind = 2 then 48 else if kind = 3 then 64 else if kind = 4 then 32 else if kind = 5 then 64 else if kind = 6 then 32 else if kind = 7 then 64 else 0
/-- a digest -/
def digD (kind : Int) (b : List Nat) : List Nat := if kind ≤ 3 then endS (wide kind) (ini kind.toNat) b b.length (outn kind) else sumK kind b (sizeD kind)
theorem kinds {kind : Int} (h : 0 < sizeD kind) : kind = 1 ∨ kind = 2 ∨ kind = 3 ∨ kind = 4 ∨ kind = 5 ∨ kind = 6 ∨ kind = 7 := by
  unfold sizeD at h
  repeat' split at h
  all_goals omega
theorem digD_length {kind : Int} (h : 0 < sizeD kind) (b : List Nat) : (digD kind b).length = sizeD kind := by
  have e8 : ∀ (c : Bool) (k : Nat) (l : List Nat), (eat c (ini k) l).length = 8 := fun c k l => eat_len _ (by
    unfold ini
    repeat' split
    all_goals decide)
  rcases kinds h with h | h | h | h | h | h | h <;> subst h
  · simp [digD, endS, bytesW_length, e8, sizeD, outn, wide, ez]
  · simp [digD, endS, bytesW_length, e8, sizeD, outn, wide, ez]
  · simp [digD, endS, bytesW_length, e8, sizeD, outn, wide, ez]
  all_goals (unfold digD; rw [if_neg (by decide)]; exact sqzB_length _ _ _)

end Go.Proofs.YtpmobjfhhkglbaaDoor

/- Keys of chains: the document's Sum at a place. -/
namespace Go.Proofs.YtpmobjfhhkglbaaDoor
open Go.RowKit
set_option linter.unusedVariables false
set_option linter.unusedSimpArgs false

/-- the sum of N bytes at a place -/
def sumW (N : Nat) (sh : Bool) (pub a text : List Nat) : List Nat :=
  match sh with
  | true => sumK 7 (pub ++ (a ++ text)) N
  | false => if 16 < N ∧ N < text.length then (digD 3 (pub ++ (List.replicate (128 - N) 0 ++ (shA a ++ text)))).take N else (digD 1 (pub ++ (List.replicate (64 - N) 0 ++ (shA a ++ text)))).take N
theorem sumW_len {N : Nat} (hN : N ≤ 32) (sh : Bool) (pub a text : List Nat) : (sumW N sh pub a text).length = N := by
  unfold sumW
  split
  · exact sqzB_length _ _ _
  · split
    · rw [List.length_take, digD_length (by decide), show sizeD 3 = 64 from rfl]; omega
    · rw [List.length_take, digD_length (by decide), show sizeD 1 = 32 from rfl]; omega
theorem wpList_load_rowS {ops : Array Oper} {rest : List Oper} {o : Oper} {a : Act} {w : World} {Q : Exit → Act → World → Prop} (hw : Region.wanted o (yielded ops a.tmps) = true) (ty : TypeId) (x : Operand) (ho : o.op = .load ty x)
    (g : Nat) (hx : a.eval x = .pointer (some ⟨g, 0, none⟩)) (t : TypeId) (cs : Array Value) (fr : Nat × Nat) (fs : _) (hg : w.heap[g]? = some (.cells cs t fr))
    (hu : Tryd.prog.underlying ty = some (.struct fs)) (hi : (Tryd.prog.info? ty).map (·.size) = some cs.size)
    (h : wpList Tryd.prog ops Q rest (a.put o.dst (.agg cs)) w) : wpList Tryd.prog ops Q (o :: rest) a w :=
  BigFrame.wpList_want hw fun _ hK => wp_load_row ty x ho g hx t cs fr (.struct fs) hg hu rfl hi (hK _ _ h)
theorem own_lenW {a : Option Addr} {n m c c' : Nat} : (Value.slice a n c).ownBlock = (Value.slice a m c').ownBlock := by cases a <;> rfl
end Go.Proofs.YtpmobjfhhkglbaaDoor

/- Keys of chains: the document's Draw, chain, begin, key. -/
namespace Go.Proofs.YtpmobjfhhkglbaaDoor
open Go.RowKit
set_option linter.unusedVariables false
set_option linter.unusedSimpArgs false

theorem conv_u32u64W (n : Nat) (h : n < 4294967296) (w : World) : (convert 42 49 (.int .u32 (n : Int))).run Tryd.prog w = .ok (.int .u64 (n : Int)) w := by
  have : IntKind.u64.wrap (n : Int) = (n : Int) := by rw [IntKind.wrap_u64]; omega
  simp [go_sem, convert, this]
theorem conv_i64u64W (n : Nat) (h : n < 18446744073709551616) (w : World) : (convert 3 49 (.int .i64 (n : Int))).run Tryd.prog w = .ok (.int .u64 (n : Int)) w := by
  have : IntKind.u64.wrap (n : Int) = (n : Int) := by rw [IntKind.wrap_u64]; omega
  simp [go_sem, convert, this]
theorem BxSW.range {W : World} {B : Nat} {N H D A K : Int} {sh : Bool} (h : BxSW W B N H D A K sh) : W.rangeAt B 0 [.int .i64 N, .int .i64 H, .int .i64 D, .int .i64 A, .int .i64 K, .bool sh] := fun j v hv => by
  rw [Nat.zero_add]
  simp only [World.cell?, h.here]
  simpa using hv
section
variable {N : Nat} {H D A K : Int}
theorem fitN (hF : FitX (N : Int) H D A K) : 16 ≤ N ∧ N ≤ 32 := by have := hF.1; omega
/-- the world with a kind and a place in boxes -/
theorem boxW (w : World) (sh : Bool) {a : List Nat} : BxSW ((w.alloc (.cells #[.int .i64 (N : Int), .int .i64 H, .int .i64 D, .int .i64 A, .int .i64 K, .bool sh] 25)).alloc (.cells (arr .u8 a) 23)) w.heap.size (N : Int) H D A K sh ∧ Lies .u8 23 ((w.alloc (.cells #[.int .i64 (N : Int), .int .i64 H, .int .i64 D, .int .i64 A, .int .i64 K, .bool sh] 25)).alloc (.cells (arr .u8 a) 23)) (w.heap.size + 1) a ∧ Below w.heap.size w ((w.alloc (.cells #[.int .i64 (N : Int), .int .i64 H, .int .i64 D, .int .i64 A, .int .i64 K, .bool sh] 25)).alloc (.cells (arr .u8 a) 23)) := by
  have L0 := Lies.new .u8 23 (w.alloc (.cells #[.int .i64 (N : Int), .int .i64 H, .int .i64 D, .int .i64 A, .int .i64 K, .bool sh] 25)) a
  rw [World.size_alloc] at L0
  exact ⟨(BxSW.new w (N : Int) H D A K sh).below (keep_alloc _ _), L0, keep_trans (keep_alloc _ _) (keep_alloc _ _)⟩
end
end Go.Proofs.YtpmobjfhhkglbaaDoor

/- Keys of chains: the document's wrong and Digits. -/
namespace Go.Proofs.YtpmobjfhhkglbaaDoor
open Go.RowKit
set_option linter.unusedVariables false
set_option linter.unusedSimpArgs false

theorem el_le_ofW {K : Nat} {l : List Nat} (h : ∀ x ∈ l, x < 2 ^ K) (i : Nat) : el l i ≤ 2 ^ K - 1 := by
  by_cases hi : i < l.length
  · rw [el_at hi]; have := h _ (List.getElem_mem hi); omega
  · unfold el; rw [List.getElem?_eq_none (by omega)]; exact Nat.zero_le _
theorem digS_natW (l : List Nat) (w c : Nat) (h1 : 1 ≤ w) (h2 : w ≤ 24) (h3 : c * w ≤ 8 * l.length) : digS l (w : Int) (c : Int) = digL l w c := by
  unfold digS
  rw [if_pos (okB_mk h1 h2 h3)]
  rfl
theorem lack_takeW {m i : Nat} {l : List Nat} (h : i < l.length) : lackL m (l.take (i + 1)) = lackL m (l.take i) + (m - el l i) := by
  rw [List.take_succ_eq_append_getElem h, lack_snoc, el_at h]
end Go.Proofs.YtpmobjfhhkglbaaDoor

/- Keys of chains, the program's own: ofType, shortened, filled, Digits. -/
namespace Go.Proofs.YtpmobjfhhkglbaaDoor
open Go.RowKit
set_option linter.unusedVariables false
set_option linter.unusedSimpArgs false

theorem rows_twoW {w : World} {u v : Value} {a b : List Nat} (hu : Row .u8 256 w u a) (tu : Tidy u) (hv : Row .u8 256 w v b) (tv : Tidy v) : Rows2 (w.alloc (.cells #[u, v] 26)) (.slice (some ⟨w.heap.size, 0, none⟩) 2 2) [a, b] :=
  rows_litL (texts_cons hu tu (texts_cons hv tv (Texts.nil _))) rfl rfl (by decide)
/-- where a place's type is turned: the place in its box, another place beside it -/
structure ZS (w : World) (a : List Nat) (y : World) : Prop where
  bel : Below w.heap.size w y
  la : Lies .u8 23 y w.heap.size a
  zz : ∃ l : List Nat, l.length = 32 ∧ Lies .u8 23 y (w.heap.size + 1) l
theorem ZS.keep {w : World} {a : List Nat} {x y : World} (h : ZS w a x) (k : Below x.heap.size x y) : ZS w a y := ⟨keep_trans h.bel k, h.la.below k, h.zz.imp fun l q => ⟨q.1, q.2.below k⟩⟩
theorem ZS.row {w : World} {a : List Nat} {y : World} (h : ZS w a y) (l : List Nat) (hl : l.length = 32) : ZS w a (y.setRow (w.heap.size + 1) (arr .u8 l)) := by
  obtain ⟨z, _, hz⟩ := h.zz
  exact ⟨h.bel.trans (((But.refl (w.heap.size + 1) y).setRow _).below (by omega) h.bel.size), h.la.but ((But.refl (w.heap.size + 1) y).setRow _) (by omega), l, hl, hz.row⟩
def ot2lt : List Lt := [(0, some 11, [2]), (0, some 12, [1]), (3, some 13, [11, 12]), (0, some 14, [5]), (0, some 15, [6]), (24, some 16, [2, 14, 15]), (36, some 17, [16]), (68, some 18, [13, 17]), (255, none, [4, 18])]
theorem ot2reg : Reg (opsA (cLA (cRA (cRA (Tryd.f19.body.getD .skip))))) ot2lt := ⟨by kernel_rfl, by kernel_rfl⟩
set_option maxHeartbeats 4000000 in
set_option maxRecDepth 100000 in
theorem woft_any (a : List Nat) (k : Nat) (w : World) (ha : Pl a) (hk : k < 18446744073709551616) :
    Calls Tryd.prog 19 #[.agg (arr .u8 a), .int .u64 (k : Int)] w fun e w' => e = .returned (.agg (arr .u8 (putA (putA a 2 k) 3 (pairA a)))) ∧ Below w.heap.size w w' := by
  have hq64 : pairA a < 18446744073709551616 := by
    have : (List.take 4 (List.drop 20 a)).length = 4 := by rw [List.length_take, List.length_drop, ha.1]; decide
    have := numL_small ((a.drop 20).take 4) (fun x hx => ha.2 x (List.mem_of_mem_drop (List.mem_of_mem_take hx))) 8 (by decide) (by omega)
    unfold pairA
    omega
  have h1 := ha.put 2 k
  have h2 := h1.put 3 (pairA a)
  have hp1 := fun x => wput_any a 2 k x ha hk
  have hp2 := fun x => wput_any (putA a 2 k) 3 (pairA a) x h1 hq64
  have hnm : ∀ x B, Lies .u8 23 x B a → Calls Tryd.prog 27 #[.slice (some ⟨B, 20, none⟩) 4 12] x fun e w' => e = .returned (.int .u64 ((pairA a : Nat) : Int)) ∧ Below x.heap.size x w' := fun x B L => by
    have r := (row_ad L ha).mid (i := 20) (j := 24) (by decide) (by rw [ha.1]; decide)
    have := num_any _ _ x r
    simp only [Nat.zero_add] at this
    exact this.mono fun e w' h => ⟨h.1, by rw [h.2]; exact Below.refl _ _⟩
  have h2l := h2.1
  generalize putA (putA a 2 k) 3 (pairA a) = P2 at *
  generalize putA a 2 k = P1 at *
  generalize pairA a = q at *
  have hpart := fun w => wpart_3 w
  obtain ⟨F, hF⟩ : ∃ F : Nat, F = 20 := ⟨_, rfl⟩
  obtain ⟨T, hT⟩ : ∃ T : Nat, T = 24 := ⟨_, rfl⟩
  have hiF : ((20 : Nat) : Int) = (F : Int) := by rw [hF]
  have hiT : ((24 : Nat) : Int) = (T : Int) := by rw [hT]
  rw [hiF, hiT] at hpart
  have hnm' : ∀ x B, Lies .u8 23 x B a → Calls Tryd.prog 27 #[.slice (some ⟨B, F, none⟩) 4 (32 - F)] x fun e w' => e = .returned (.int .u64 (q : Int)) ∧ Below x.heap.size x w' := fun x B L => by rw [hF]; exact hnm x B L
  have hFT : F ≤ T := by omega
  have hT32 : T ≤ 32 := by omega
  have hF32 : F < 32 := by omega
  have hK : T - F = 4 := by omega
  obtain ⟨W0, hW0⟩ : ∃ W0 : World, W0 = (w.alloc (.cells (arr .u8 a) 23)).alloc (.cells (arr .u8 zP) 23) := ⟨_, rfl⟩
  have hb0 : Below w.heap.size w W0 := by rw [hW0]; exact keep_trans (keep_alloc _ _) (keep_alloc _ _)
  have L0 : Lies .u8 23 W0 w.heap.size a := by rw [hW0]; exact (Lies.new .u8 23 w a).below (keep_alloc _ _)
  have Z0 : Lies .u8 23 W0 (w.heap.size + 1) zP := by rw [hW0]; have := Lies.new .u8 23 (w.alloc (.cells (arr .u8 a) 23)) zP; rw [World.size_alloc] at this; exact this
  have hbd : ZS w a W0.drew := ⟨hb0.drew, L0, zP, by decide, Z0⟩
  have hz := zeroAd
  clear L0 Z0 hb0 hF hT hiF hiT hnm h1 h2
  go_enter Tryd.func19, Tryd.ntmps19
  go_wp2_with (first
    | (go_at_call 26; refine (hpart _).mono ?_; rintro e w1 ⟨rfl, hx⟩; obtain rfl := hx.symm)
    | fail)
  rw [← hW0]
  clear hW0
  refine at_begin (ops := opsA (cLA (cRA (cRA (Tryd.f19.body.getD .skip))))) (n := 9) (fun y => ZS w a y) (by kernel_rfl) (by kernel_rfl) ?_
  refine at_takeD (i := 0) (m' := 1) (d := some 11) (v := .agg (arr .u8 a)) ot2reg rfl (by decide) rfl rfl (y_rowG (cs := vals .u8 a) (wanted_free rfl) rfl rfl Tryd.underlying23 rfl (by rw [vals_length, ha.1]; kernel_rfl) (fun _ h => lies_rangeW h.la)) hbd ?_
  simp only [Act.put, List.setIfInBounds_toArray, List.set_cons_zero, List.set_cons_succ]
  refine at_takeD (i := 1) (m' := 3) (d := some 12) (v := .int .u64 (k : Int)) ot2reg rfl (by decide) rfl rfl (y_moveG (wanted_free rfl) rfl rfl) hbd ?_
  simp only [Act.put, List.setIfInBounds_toArray, List.set_cons_zero, List.set_cons_succ]
  refine at_takeD (i := 3) (m' := 11) (d := some 14) (v := .int .i64 (F : Int)) ot2reg rfl (by decide) rfl rfl (y_moveG (wanted_free rfl) rfl rfl) hbd ?_
  simp only [Act.put, List.setIfInBounds_toArray, List.set_cons_zero, List.set_cons_succ]
  refine at_takeD (i := 4) (m' := 27) (d := some 15) (v := .int .i64 (T : Int)) ot2reg rfl (by decide) rfl rfl (y_moveG (wanted_free rfl) rfl rfl) hbd ?_
  simp only [Act.put, List.setIfInBounds_toArray, List.set_cons_zero, List.set_cons_succ]
  refine at_takeD (i := 5) (m' := 59) (d := some 16) (v := .slice (some ⟨w.heap.size, F, none⟩) 4 (32 - F)) ot2reg rfl (by decide) rfl rfl (y_midV (wanted_free rfl) rfl rfl rfl rfl hFT hT32 hK hF32) hbd ?_
  simp only [Act.put, List.setIfInBounds_toArray, List.set_cons_zero, List.set_cons_succ]
  refine at_one (i := 2) (m' := 63) ot2reg (by decide) rfl ?_
  refine p_callG (args := #[.agg (arr .u8 a), .int .i64 2, .int .u64 (k : Int)]) (d := some 13) rfl (wanted_free rfl) rfl (by simp only [List.map_toArray, List.map_cons, List.map_nil]; rfl) rfl Tryd.call17 ((hp1 W0.drew).mono ?_)
  rintro e y6 ⟨rfl, g6⟩
  have hb6 := ZS.keep hbd g6
  refine ⟨_, rfl, hb6, ?_⟩
  simp only [Act.put, List.setIfInBounds_toArray, List.set_cons_zero, List.set_cons_succ]
  refine at_one (i := 6) (m' := 127) ot2reg (by decide) rfl ?_
  refine p_callG (args := #[.slice (some ⟨w.heap.size, F, none⟩) 4 (32 - F)]) (d := some 17) rfl (wanted_free rfl) rfl (by simp only [List.map_toArray, List.map_cons, List.map_nil]; rfl) rfl Tryd.call27 ((hnm' y6 _ (hb6).la).mono ?_)
  rintro e y7 ⟨rfl, g7⟩
  have hb7 := ZS.keep hb6 g7
  refine ⟨_, rfl, hb7, ?_⟩
  simp only [Act.put, List.setIfInBounds_toArray, List.set_cons_zero, List.set_cons_succ]
  refine at_one (i := 7) (m' := 255) ot2reg (by decide) rfl ?_
  refine p_callG (args := #[.agg (arr .u8 P1), .int .i64 3, .int .u64 (q : Int)]) (d := some 18) rfl (wanted_free rfl) rfl (by simp only [List.map_toArray, List.map_cons, List.map_nil]; rfl) rfl Tryd.call17 ((hp2 y7).mono ?_)
  rintro e y8 ⟨rfl, g8⟩
  have hb8 := ZS.keep hb7 g8
  refine ⟨_, rfl, hb8, ?_⟩
  simp only [Act.put, List.setIfInBounds_toArray, List.set_cons_zero, List.set_cons_succ]
  refine at_one (i := 8) (m' := 511) ot2reg (by decide) rfl ?_
  obtain ⟨zl, hzl2, Lz⟩ := (hb8).zz
  refine p_rowA (cells := arr .u8 P2) rfl rfl rfl rfl rfl rfl Lz (by rw [arr_size, h2l]; kernel_rfl) (by rw [arr_size, arr_size, h2l, hzl2]) (arr_one _ _) ?_
  have Zc : Lies .u8 23 (y8.setRow (w.heap.size + 1) (arr .u8 P2)) (w.heap.size + 1) P2 := Lz.row
  have hb9 := (hb8).row P2 h2l
  refine ⟨hb9, ?_⟩
  refine at_done ot2reg (by decide) ?_
  go_wp2
  refine bodyPost_ret (v := .agg (arr .u8 P2)) ?_ ?_ ?_
  · exact results_cell_row Tryd.results19 _ _ (w.heap.size + 1) _ _ _ (.array 32 5) (by rfl) Zc (by kernel_rfl) rfl (by rw [arr_size, h2l]; kernel_rfl)
  · rfl
  · exact ⟨rfl, (hb9).bel⟩
def so1lt : List Lt := [(0, some 3, [1]), (0, some 4, [1]), (0, some 5, [1]), (7, some 6, [3, 4, 5]), (8, some 7, [6]), (31, some 2, [7])]
theorem so1reg : Reg (opsA (cLA (cRA (Tryd.f47.body.getD .skip)))) so1lt := ⟨by kernel_rfl, by kernel_rfl⟩
theorem shA_code {a : List Nat} (ha : a.length = 32) : shA a = (a.drop 3).take 1 ++ ((a.drop 8).take 8 ++ a.drop 19) := by
  unfold shA
  congr 2
  have h12 : (a.drop 20).take 12 = (a.drop 19).drop 1 := by rw [List.take_of_length_le (by rw [List.length_drop]; omega), List.drop_drop]
  rw [h12, List.take_append_drop]
set_option maxHeartbeats 4000000 in
set_option maxRecDepth 100000 in
theorem wsho_any (a : List Nat) (w : World) (ha : Pl a) :
    Calls Tryd.prog 47 #[.agg (arr .u8 a)] w fun e w' => ∃ v, e = .returned v ∧ Own 5 .u8 256 w' w.heap.size v (shA a) ∧ Below w.heap.size w w' := by
  obtain ⟨W0, hW0⟩ : ∃ W0 : World, W0 = w.alloc (.cells (arr .u8 a) 23) := ⟨_, rfl⟩
  have hb0 : Below w.heap.size w W0 := by rw [hW0]; exact keep_alloc _ _
  have L0 : Lies .u8 23 W0 w.heap.size a := by rw [hW0]; exact Lies.new .u8 23 w a
  have r := row_ad L0 ha
  have q1 : Row .u8 256 W0 (.slice (some ⟨w.heap.size, 3, none⟩) 1 29) ((a.drop 3).take 1) := by have := r.mid (i := 3) (j := 4) (by decide) (by rw [ha.1]; decide); simpa using this
  have q2 : Row .u8 256 W0 (.slice (some ⟨w.heap.size, 8, none⟩) 8 24) ((a.drop 8).take 8) := by have := r.mid (i := 8) (j := 16) (by decide) (by rw [ha.1]; decide); simpa using this
  have q3 : Row .u8 256 W0 (.slice (some ⟨w.heap.size, 19, none⟩) 13 13) (a.drop 19) := by
    have := r.mid (i := 19) (j := 32) (by decide) (by rw [ha.1]; exact Nat.le_refl _)
    rw [List.take_of_length_le (by rw [List.length_drop, ha.1]; decide)] at this
    simpa using this
  have t1 : Tidy (.slice (some ⟨w.heap.size, 3, none⟩) 1 29) := tidy_someW
  have t2 : Tidy (.slice (some ⟨w.heap.size, 8, none⟩) 8 24) := tidy_someW
  have t3 : Tidy (.slice (some ⟨w.heap.size, 19, none⟩) 13 13) := tidy_someW
  have hl := shA_len ha.1
  have hjn : ∀ y lv, Rows2 y lv [(a.drop 3).take 1, (a.drop 8).take 8, a.drop 19] → Calls Tryd.prog 15 #[lv] y fun e w' => ∃ v, e = .returned v ∧ Own 5 .u8 256 w' y.heap.size v (shA a) ∧ Below y.heap.size y w' := fun y lv r => by
    have := join_any lv _ y r (by simp only [List.flatten_cons, List.flatten_nil, List.append_nil, List.length_append, List.length_take, List.length_drop, ha.1]; omega)
    rw [shA_code ha.1]
    simpa using this
  obtain ⟨SA, hSA⟩ : ∃ x, x = shA a := ⟨_, rfl⟩
  rw [← hSA] at hjn ⊢
  generalize (a.drop 3).take 1 = p1 at *
  generalize (a.drop 8).take 8 = p2 at *
  generalize a.drop 19 = p3 at *
  obtain ⟨i0, hi0, hz0, hz1, hz2⟩ := info_text
  have hbd : Below W0.heap.size W0 W0.drew := (Below.refl _ _).drew
  clear r L0 ha hl hSA
  go_enter Tryd.func47, Tryd.ntmps47
  go_wp2
  rw [← hW0]
  clear hW0
  refine at_begin (ops := opsA (cLA (cRA (Tryd.f47.body.getD .skip)))) (n := 6) (fun y => Below W0.heap.size W0 y) (by kernel_rfl) (by kernel_rfl) ?_
  refine at_takeD (i := 0) (m' := 1) (d := some 3) (v := .slice (some ⟨w.heap.size, 3, none⟩) 1 29) so1reg rfl (by decide) rfl rfl (y_midA3_4 (wanted_free rfl) rfl rfl) hbd ?_
  simp only [Act.put, List.setIfInBounds_toArray, List.set_cons_zero, List.set_cons_succ]
  refine at_takeD (i := 1) (m' := 3) (d := some 4) (v := .slice (some ⟨w.heap.size, 8, none⟩) 8 24) so1reg rfl (by decide) rfl rfl (y_midA8_16 (wanted_free rfl) rfl rfl) hbd ?_
  simp only [Act.put, List.setIfInBounds_toArray, List.set_cons_zero, List.set_cons_succ]
  refine at_takeD (i := 2) (m' := 7) (d := some 5) (v := .slice (some ⟨w.heap.size, 19, none⟩) 13 13) so1reg rfl (by decide) rfl rfl (y_dropV (F := 19) (K := 13) (wanted_free rfl) rfl rfl rfl (by decide) (by decide)) hbd ?_
  simp only [Act.put, List.setIfInBounds_toArray, List.set_cons_zero, List.set_cons_succ]
  refine at_one (i := 3) (m' := 15) so1reg (by decide) rfl ?_
  refine p_build3G (d := some 6) rfl (wanted_free rfl) rfl rfl rfl rfl rfl Tryd.underlying38 hi0 hz1 hz0 ?_
  have hb4 := keep_trans hbd (keep_alloc W0.drew (.cells #[.slice (some ⟨w.heap.size, 3, none⟩) 1 29, .slice (some ⟨w.heap.size, 8, none⟩) 8 24, .slice (some ⟨w.heap.size, 19, none⟩) 13 13] 26))
  have rr := rows_litL (B := W0.drew.heap.size) (k := 3) (texts_cons (q1.below hbd) t1 (texts_cons (q2.below hbd) t2 (texts_cons (q3.below hbd) t3 (Texts.nil _)))) rfl rfl (by decide)
  refine ⟨hb4, ?_⟩
  simp only [Act.put, List.setIfInBounds_toArray, List.set_cons_zero, List.set_cons_succ]
  refine at_one (i := 4) (m' := 31) so1reg (by decide) rfl ?_
  refine p_callG (args := #[.slice (some ⟨W0.drew.heap.size, 0, none⟩) 3 3]) (d := some 7) rfl (wanted_free rfl) rfl (by simp only [List.map_toArray, List.map_cons, List.map_nil]; rfl) rfl Tryd.call15 ((hjn (W0.drew.alloc (.cells #[.slice (some ⟨w.heap.size, 3, none⟩) 1 29, .slice (some ⟨w.heap.size, 8, none⟩) 8 24, .slice (some ⟨w.heap.size, 19, none⟩) 13 13] 26)) _ rr).mono ?_)
  rintro e y5 ⟨jv, rfl, oj, g5⟩
  have ybs := (hb4).size
  have hb5 := keep_trans hb4 g5
  refine ⟨_, rfl, hb5, ?_⟩
  simp only [Act.put, List.setIfInBounds_toArray, List.set_cons_zero, List.set_cons_succ]
  refine at_takeD (i := 5) (m' := 63) (d := some 2) (v := jv) so1reg rfl (by decide) rfl rfl (y_assignG (wanted_free rfl) rfl rfl) hb5 ?_
  simp only [Act.put, List.setIfInBounds_toArray, List.set_cons_zero, List.set_cons_succ]
  refine at_done so1reg (by decide) ?_
  go_wp2
  go_ret
  exact ⟨_, rfl, oj.mono (Nat.le_trans hb0.size ybs), keep_trans hb0 hb5⟩
set_option maxHeartbeats 4000000 in
set_option maxRecDepth 100000 in
theorem wfil_any (b : List Nat) (bv : Value) (B : Nat) (w : World) (hb : Row .u8 256 w bv b) (tb : Tidy bv) (hl : b.length ≤ B) (hB : B ≤ 1000) :
    Calls Tryd.prog 44 #[bv, .int .i64 (B : Int)] w fun e w' => ∃ v, e = .returned v ∧ Own 5 .u8 256 w' w.heap.size v (b ++ List.replicate (B - b.length) 0) ∧ Below w.heap.size w w' := by
  obtain ⟨K, hK⟩ : ∃ K : Nat, B - b.length = K := ⟨_, rfl⟩
  obtain ⟨ba, bc, rfl, _⟩ := hb.opens rfl
  obtain ⟨L, hL⟩ : ∃ L : Nat, b.length = L := ⟨_, rfl⟩
  have e_K : (B : Int) - (L : Int) = (K : Int) := by omega
  have s_K : IntKind.i64.wrap (K : Int) = (K : Int) := by rw [IntKind.wrap_i64]; omega
  obtain ⟨i0, hi, hz0, hz1, hz2⟩ := info_parts Tryd.info5
  have hjn : ∀ y lv, Rows2 y lv [b, List.replicate K 0] → Calls Tryd.prog 15 #[lv] y fun e w' => ∃ v, e = .returned v ∧ Own 5 .u8 256 w' y.heap.size v (b ++ List.replicate K 0) ∧ Below y.heap.size y w' := fun y lv r => by
    have := join_any lv _ y r (by simp only [List.flatten_cons, List.flatten_nil, List.append_nil, List.length_append, List.length_replicate]; omega)
    simpa using this
  have hKB : K ≤ 1000 := by omega
  rw [hK]
  rw [hL] at hb tb ⊢
  have ZR : Under 256 (List.replicate K 0) := Under.replicate 256 K (by decide)
  have zl : (List.replicate K 0).length = K := List.length_replicate
  clear hl hK
  go_enter Tryd.func44, Tryd.ntmps44
  go_wp2_with (first
    | (at_make; refine wpList_make_full _ rfl _ _ 26 rfl w.heap.size 5 i0 (.int .u8 0) 1 Tryd.underlying26 hi hz0 hz1 _ _ _ _ K rfl rfl rfl rfl (by rw [hz2]; omega) (by unfold maxLen; omega) (Nat.le_refl _) ?_; intro w1 hown hgrow; have kw := (Below.refl w.heap.size w).grown hgrow (Nat.le_refl _) (fun k h => by cases h); rw [made_u8] at hown; have ow : Own 5 .u8 256 w1 w.heap.size (.slice (some ⟨w.heap.size, 0, none⟩) K K) (List.replicate K 0) := ⟨by rw [zl]; exact hown, ZR⟩; have rr := rows_twoW (hb.below kw) tb ow.row tidy_someW)
    | (go_at_call 15; refine (hjn _ _ rr).mono ?_; rintro e w2 ⟨v2, rfl, o2, hb2⟩)
    | fail)
  go_ret
  exact ⟨_, rfl, o2.mono (keep_trans kw (keep_alloc _ _)).size, keep_trans (keep_trans kw (keep_alloc _ _)) hb2⟩
/-- digits of two texts, one behind the other -/
theorem dig_app4 {a b : List Nat} (ub : Under 256 b) {c : Nat} (hc : c * 4 ≤ 8 * b.length) : digL (a ++ b) 4 (2 * a.length + c) = digL a 4 (2 * a.length) ++ digL b 4 c := by
  have hB := valBe_lt b ub
  unfold digL
  rw [List.range_add, List.map_append, List.map_map]
  congr 1
  · apply List.map_congr_left
    intro i hi
    have hi' : i < 2 * a.length := by simpa using hi
    unfold dig
    rw [valBe_app, List.length_append, show 8 * (a.length + b.length) - (i + 1) * 4 = 8 * b.length + (8 * a.length - (i + 1) * 4) by omega, Nat.pow_add, ← Nat.div_div_eq_div_mul, Nat.mul_comm (valBe a),
      Nat.mul_add_div (Nat.pow_pos (by decide)), Nat.div_eq_of_lt hB, Nat.add_zero]
  · apply List.map_congr_left
    intro i hi
    have hi' : i < c := by simpa using hi
    show dig (a ++ b) 4 (2 * a.length + i) = dig b 4 i
    unfold dig
    rw [valBe_app, List.length_append, show 8 * (a.length + b.length) - (2 * a.length + i + 1) * 4 = 8 * b.length - (i + 1) * 4 by omega]
    obtain ⟨e, he⟩ : ∃ e, e = 8 * b.length - (i + 1) * 4 := ⟨_, rfl⟩
    rw [← he, show 8 * b.length = (4 * i + 4) + e by omega, Nat.pow_add, ← Nat.mul_assoc, Nat.mul_comm (valBe a * 2 ^ (4 * i + 4)), Nat.mul_add_div (Nat.pow_pos (by decide)), Nat.pow_add, ← Nat.mul_assoc, Nat.mul_add_mod']
/-- where the loop of a check stands -/
def WdL (w0 : World) (L : List Nat) (vs vi : Value) (wr : World) : Prop := ∃ i : Nat, i ≤ L.length ∧ vi = .int .i64 (i : Int) ∧ vs = .int .u64 ((lackL 15 (L.take i) : Nat) : Int) ∧ Below w0.heap.size w0 wr
set_option maxHeartbeats 4000000 in
set_option maxRecDepth 100000 in
theorem wdig_ok {N : Nat} (hN : N = 16 ∨ N = 24 ∨ N = 32) (d : List Nat) (dv : Value) (w : World) (hd : Row .u8 256 w dv d) (td : Tidy dv) (hl : d.length = N) :
    Calls Tryd.prog 14 #[.int .i64 (N : Int), dv] w fun e w' => ∃ v, e = .returned v ∧ Own 42 .u32 4294967296 w' w.heap.size v (dgW N d) ∧ Below w.heap.size w w' := by
  obtain ⟨da, dc, rfl, _⟩ := hd.opens hl
  have hz := fun y => wisz_any (N : Int) y
  rw [decide_eq_true (by omega)] at hz
  have hN32 : N ≤ 32 := by omega
  have hchl := chkW_lt hN32 d
  obtain ⟨E, hE⟩ : ∃ E : Nat, 8 * N = E := ⟨_, rfl⟩
  obtain ⟨M, hM⟩ : ∃ M : Nat, 2 * N = M := ⟨_, rfl⟩
  obtain ⟨P, hP⟩ : ∃ P : Nat, 2 * N + 3 = P := ⟨_, rfl⟩
  have e_E : 8 * (N : Int) = (E : Int) := by omega
  have s_E : IntKind.i64.wrap (E : Int) = (E : Int) := by rw [IntKind.wrap_i64]; omega
  have e_M : (E : Int) / 4 = (M : Int) := by omega
  have t_M : (E : Int).tdiv 4 = (M : Int) := by rw [Int.tdiv_eq_ediv_of_nonneg (by omega)]; omega
  have s_M : IntKind.i64.wrap (M : Int) = (M : Int) := by rw [IntKind.wrap_i64]; omega
  have hdig := fun y (r : Row .u8 256 y (.slice da N dc) d) => dig_any _ d (4 : Nat) (M : Int) y r (by omega) (by omega) (by omega)
  rw [digS_natW d 4 M (by decide) (by decide) (by omega)] at hdig
  have hlt : ∀ i, el (digL d 4 M) i ≤ 15 := fun i => el_le_ofW (K := 4) (digL_lt d M) i
  have hll : (digL d 4 M).length = M := digL_length _ _ _
  obtain ⟨C, hC⟩ : ∃ C : Nat, C = lackL 15 (digL d 4 M) := ⟨_, rfl⟩
  have hCk : chkW N d = C := by unfold chkW; rw [hM, hC]
  obtain ⟨SH, hSH⟩ : ∃ SH : Nat, SH = 16 * C := ⟨_, rfl⟩
  rw [hCk] at hchl
  have hDs : dgW N d = digL (d ++ be2 SH) 4 P := by
    have := dig_app4 (a := d) (b := be2 SH) (be2_under' SH) (c := 3) (by rw [be2_len]; decide)
    rw [hl, hP] at this
    rw [this]
    unfold dgW
    rw [hCk, hSH]
  rw [hDs]
  have hb2 := fun y => wbeX SH 2 y (by omega) (by decide)
  have hb2e : beNW SH 2 = be2 SH := rfl
  rw [hb2e] at hb2
  have h2l := be2_len SH
  have hjn : ∀ y lv, Rows2 y lv [d, be2 SH] → Calls Tryd.prog 15 #[lv] y fun e w' => ∃ v, e = .returned v ∧ Own 5 .u8 256 w' y.heap.size v (d ++ be2 SH) ∧ Below y.heap.size y w' := fun y lv r => by
    have := join_any lv _ y r (by simp only [List.flatten_cons, List.flatten_nil, List.append_nil, List.length_append, be2_len]; omega)
    simpa using this
  obtain ⟨JJ, hJ⟩ : ∃ JJ, JJ = d ++ be2 SH := ⟨_, rfl⟩
  have hJl : JJ.length = N + 2 := by rw [hJ, List.length_append, be2_len, hl]
  rw [← hJ] at hjn ⊢
  have hdg2 := fun y v (r : Row .u8 256 y v JJ) => dig_any v JJ (4 : Nat) (P : Int) y r (by omega) (by omega) (by omega)
  rw [digS_natW JJ 4 P (by decide) (by decide) (by omega)] at hdg2
  have hct := fun y => wdct_any N y (by omega)
  rw [hP] at hct
  have hsum : ∀ i, i ≤ M → lackL 15 ((digL d 4 M).take i) ≤ 960 := fun i hi => by
    have := lack_lt 15 ((digL d 4 M).take i)
    rw [List.length_take, hll] at this
    have := Nat.min_le_right i M
    have h3 := Nat.mul_le_mul_right 15 this
    omega
  generalize be2 SH = BE at *
  generalize digL JJ 4 P = DD at *
  generalize hLL : digL d 4 M = L at *
  have HC := hide (And.intro hC (And.intro hSH hchl))
  have HS := hide (And.intro hsum hlt)
  have HD := hide (And.intro hd td)
  have h8 : (N : Int) ≠ 0 := by omega
  have hNN : ((N : Int) != (N : Int)) = false := by simp
  clear hC hSH hchl hsum hlt hDs hCk hLL hE hP hJ hb2e hN
  go_enter Tryd.func14, Tryd.ntmps14
  go_wp2_with (first
    | (go_at_call 20; refine (hz _).mono ?_; rintro e w1 ⟨rfl, hx⟩; obtain rfl := hx.symm)
    | (go_at_call 21; refine (hdig _ HD.out.1).mono ?_; rintro e w1 ⟨v1, rfl, o1, hb1⟩; obtain ⟨la, lc, rfl, _, _, hcel⟩ := o1.row.opens hll)
    | fail)
  go_loopw [5, 23] (fun vs vi wr => WdL w1 L vs vi wr) (fun _ vi _ => M - (intOf vi).toNat)
  case atStart => exact ⟨0, Nat.zero_le _, rfl, rfl, Below.refl _ _⟩
  case round =>
    obtain ⟨i, hi, rfl, rfl, hbr⟩ := hrel
    rename World => wr
    obtain ⟨hsum, hlt⟩ := HS.out
    by_cases hin : i < M
    · have hii : (i : Int) < (M : Int) := by omega
      obtain ⟨lb, lo, rfl, hcell⟩ := hcel (by omega)
      have c0 := keep_cell (hcell i hin) hbr
      have hle := hlt i
      have hlk := lack_takeW (m := 15) (i := i) (l := L) (by omega)
      have hs1 := hsum i (by omega)
      have hs2 := hsum (i + 1) (by omega)
      generalize el L i = x at *
      obtain ⟨S0, hS0⟩ : ∃ S0, lackL 15 (L.take i) = S0 := ⟨_, rfl⟩
      obtain ⟨S1, hS1⟩ : ∃ S1, lackL 15 (L.take (i + 1)) = S1 := ⟨_, rfl⟩
      obtain ⟨Q, hQ⟩ : ∃ Q, i + 1 = Q := ⟨_, rfl⟩
      obtain ⟨X, hX⟩ : ∃ X : Nat, 15 - x = X := ⟨_, rfl⟩
      rw [hS0] at hlk hs1 ⊢
      rw [hS1] at hlk hs2
      have e_X : 15 - (x : Int) = (X : Int) := by omega
      have s_X : IntKind.u32.wrap (X : Int) = (X : Int) := by rw [IntKind.wrap_u32]; omega
      have u_X : IntKind.u64.wrap (X : Int) = (X : Int) := by rw [IntKind.wrap_u64]; omega
      have e_S : (S0 : Int) + (X : Int) = (S1 : Int) := by omega
      have s_S : IntKind.u64.wrap (S1 : Int) = (S1 : Int) := by rw [IntKind.wrap_u64]; omega
      have e_Q : (i : Int) + 1 = (Q : Int) := by omega
      have s_Q : IntKind.i64.wrap (Q : Int) = (Q : Int) := by rw [IntKind.wrap_i64]; omega
      have HK := hide (And.intro hQ (And.intro hS1 (And.intro hbr hin)))
      clear hlk hs1 hs2 hS0 hX hQ hS1 hbr hle hi hsum hlt hin hcel
      go_wp2
      obtain ⟨hQ, hS1, hbr, hin⟩ := HK.out
      exact ⟨⟨Q, by omega, rfl, by rw [← hQ, hS1], hbr⟩, by simp [intOf]; omega⟩
    · obtain rfl : i = M := by omega
      have hge : ¬ ((i : Int) < (i : Int)) := by omega
      rw [List.take_of_length_le (by omega)]
      obtain ⟨hC, hSH, hchl⟩ := HC.out
      rw [← hC]
      have e_SH : (C : Int) * 16 = (SH : Int) := by omega
      have e_SH2 : (C : Int) * 2 ^ 4 = (SH : Int) := by rw [← e_SH]; rfl
      have s_SH : IntKind.u64.wrap (SH : Int) = (SH : Int) := by rw [IntKind.wrap_u64]; omega
      have kw := keep_trans hb1 hbr
      have rd := HD.out.1.below kw
      have tdd := HD.out.2
      clear hC hSH hchl HC hsum hlt HS HD hdig hcel o1
      go_wp2_with (first
        | (go_at_call 22; refine (hb2 _).mono ?_; rintro e w2 ⟨v2, rfl, o2, hb3⟩; have tB := own_tidyG o2; have rB := o2.row; obtain ⟨ba, bc, rfl, _⟩ := rB.opens h2l; have rr := rows_twoW (rd.below hb3) tdd rB tB)
        | (go_at_call 15; refine (hjn _ _ rr).mono ?_; rintro e w3 ⟨v3, rfl, o3, hb4⟩; obtain ⟨ja, jc, rfl, _⟩ := o3.row.opens hJl; have rj := o3.row)
        | (go_at_call 18; refine (hct _).mono ?_; rintro e w4 ⟨rfl, hx⟩; obtain rfl := hx.symm)
        | (go_at_call 21; refine (hdg2 _ _ rj).mono ?_; rintro e w5 ⟨v5, rfl, o5, hb5⟩)
        | fail)
      go_ret
      have k3 := keep_trans (keep_trans kw hb3) (keep_trans (keep_alloc _ _) hb4)
      exact ⟨_, rfl, o5.mono k3.size, keep_trans k3 hb5⟩
end Go.Proofs.YtpmobjfhhkglbaaDoor

/- mac's added: a sum of sha with texts more. -/
namespace Go.Proofs.YtpmobjfhhkglbaaDoor
open Go.RowKit
set_option linter.unusedVariables false
set_option linter.unusedSimpArgs false

/-- what stands behind the bytes P: the words, what is left -/
def wsH (kind : Int) (P : List Nat) : List Nat := eat (wide kind) (ini kind.toNat) P
def tlH (kind : Int) (P : List Nat) : List Nat := left (wide kind) P
theorem ini_8 (k : Nat) : (ini k).length = 8 := by
  unfold ini
  repeat' split
  all_goals decide
theorem ini_u {kind : Int} (h : kind = 1 ∨ kind = 2 ∨ kind = 3) : Under (wm (wide kind)) (ini kind.toNat) := by
  rcases h with h | h | h <;> subst h <;> exact dec_under (by decide)
theorem wsH_8 (kind : Int) (P : List Nat) : (wsH kind P).length = 8 := eat_len P (ini_8 _)
theorem wsH_u {kind : Int} (h : kind = 1 ∨ kind = 2 ∨ kind = 3) (P : List Nat) : Under (wm (wide kind)) (wsH kind P) := eat_under P (ini_u h)
theorem wsH_u64 {kind : Int} (h : kind = 1 ∨ kind = 2 ∨ kind = 3) (P : List Nat) : Under 18446744073709551616 (wsH kind P) := by
  have h' := wsH_u h P
  rcases h with h | h | h <;> subst h
  · exact Row.mono_u64 (m := 0) h'
  · exact h'
  · exact h'
theorem wsH_app (kind : Int) (P b : List Nat) : eat (wide kind) (wsH kind P) (tlH kind P ++ b) = wsH kind (P ++ b) := (eat_parts _ _ P b).symm
theorem tlH_app (kind : Int) (P b : List Nat) : left (wide kind) (tlH kind P ++ b) = tlH kind (P ++ b) := (left_parts _ P b).symm
theorem hfit_at {kind : Int} (h : kind = 1 ∨ kind = 2 ∨ kind = 3) (P : List Nat) (hP : P.length < 1152921504606846976) : hfit kind (wsH kind P) (tlH kind P).length P.length = true :=
  hfit_mk (wsH_8 _ _) h hP (left_length _ _) (wsH_u h P)
/-- the end of what goes on is the digest -/
theorem endS_at {kind : Int} (h : kind = 1 ∨ kind = 2 ∨ kind = 3) (P : List Nat) : endS (wide kind) (wsH kind P) (tlH kind P) P.length (outn kind) = digD kind P := by
  have e : digD kind P = endS (wide kind) (ini kind.toNat) P P.length (outn kind) := by unfold digD; rw [if_pos (by omega)]
  rw [e]
  unfold endS wsH tlH
  rw [fill_left, ← eat_parts]
/-- a sum behind the bytes P -/
def hvP (kind : Int) (P : List Nat) (tv : Value) : Array Value := hv kind (wsH kind P) tv P.length
theorem hv_one {kind : Int} {ws : List Nat} {tv : Value} {n : Nat} (h : tv.oneCell' = true) : (hv kind ws tv n).all (·.oneCell') = true := by
  unfold hv
  simp only [Value.oneCell'] at h
  simp [Value.oneCell', h]
end Go.Proofs.YtpmobjfhhkglbaaDoor
