/- The code's iterators: slices.Chunk of 16 bytes. -/
import Derived.RangeFuncBox
import Derived.RangeFuncNested
import Derived.RangeFuncBound
import Derived.RangeFuncCalls
import Derived.RangeFuncLeaves
import Derived.Shelf.Abstract
import Derived.OwnWalkIn
import Derived.TacticsInMore
import Derived.LoopNIn
import Derived.LoopIn
import Derived.Maps.AppendAt
import Derived.Lib.MinMax
import Derived.Sort.QuietIn
import Derived.Test.YteiknfcegchbcaaAesW
import Derived.Test.YteiknfcegchbcaaProg
import Derived.Test.YteiknfcegchbcaaAesS
namespace Go.Proofs.Yteiknfcegchbcaa
open Go.RowKit Go.Shelf
set_option linter.unusedVariables false
set_option linter.unusedSimpArgs false
attribute [local go_sem] Oper.semAt_some

/-- the first k of N numbers -/
def finL (N : Nat) : Nat → List (Fin N)
  | 0 => []
  | k + 1 => if h : k < N then finL N k ++ [⟨k, h⟩] else finL N k
theorem finL_next {N k : Nat} (h : k < N) : finL N (k + 1) = finL N k ++ [⟨k, h⟩] := by show (if h : k < N then _ else _) = _; rw [dif_pos h]
theorem finL_len {N : Nat} : ∀ k, k ≤ N → (finL N k).length = k
  | 0, _ => rfl
  | k + 1, h => by rw [finL_next (by omega), List.length_append, finL_len k (by omega)]; rfl
theorem finL_pre {N : Nat} : ∀ k, k ≤ N → ∀ j, j ≤ k → finL N j <+: finL N k
  | 0, _, j, hj => by obtain rfl : j = 0 := by omega
                      exact List.prefix_refl _
  | k + 1, h, j, hj => by
    by_cases e : j = k + 1
    · rw [e]; exact List.prefix_refl _
    · rw [finL_next (by omega)]
      exact (finL_pre k (by omega) j (by omega)).trans (List.prefix_append _ _)
/-- the blocks from lo up to hi are as they were -/
def KpC (lo hi : Nat) (A B : World) : Prop := ∀ k, lo ≤ k → k < hi → B.heap[k]? = A.heap[k]?
theorem KpC.trans {lo hi : Nat} {A B C : World} (h : KpC lo hi A B) (k : KpC lo hi B C) : KpC lo hi A C := fun i h1 h2 => (k i h1 h2).trans (h i h1 h2)
theorem KpC.cell {lo hi : Nat} {A B : World} (h : KpC lo hi A B) {p : Addr} {v : Value} (h1 : lo ≤ p.block) (h2 : p.block < hi) (hc : A.cell? p = some v) : B.cell? p = some v := by
  rw [World.cell?_of_block (h _ h1 h2)]; exact hc
set_option maxRecDepth 100000 in
set_option maxHeartbeats 4000000 in
theorem chunk1_in (n : Nat) (hn : 1 ≤ n) (l lo hi Bs Bn xb xo xc N Z : Nat) (hZ : Z = 16 * N) (hZc : Z ≤ xc) (hZ6 : xc ≤ 9223372036854775807) (w0 : World) (hBs : lo ≤ Bs ∧ Bs < hi) (hBn : lo ≤ Bn ∧ Bn < hi) (J Jx : List (Fin N) → World → Prop)
    (hY : ∀ pre (x : Fin N) W, J pre W → pre.length < N → YieldAt Fence.wide (n - 1) Try.prog l #[.slice (some ⟨xb, xo + 16 * x.1, none⟩) 16 16] W fun e W' =>
      (e = .returned (.bool true) ∧ J (pre ++ [x]) W' ∧ KpC lo hi W W') ∨ (e = .returned (.bool false) ∧ Jx (pre ++ [x]) W'))
    (hJd : ∀ pre W q, J pre W → J pre (W.drewN q))
    (W : World) (hW : KpC lo hi w0 W) (hcs : w0.cell? ⟨Bs, 0, none⟩ = some (.slice (some ⟨xb, xo, none⟩) Z xc)) (hcn : w0.cell? ⟨Bn, 0, none⟩ = some (.int .i64 16)) (h0 : J [] W) :
    CallsIn Fence.wide n Try.prog 64 #[.func (.yield l) #[] #[], .pointer (some ⟨Bs, 0, none⟩), .pointer (some ⟨Bn, 0, none⟩)] W fun e W' => (∃ v, e = .returned v) ∧
      ((∃ ys, ys = finL N N ∧ J ys W') ∨ (∃ pre, pre <+: finL N N ∧ Jx pre W')) := by
  refine callsIn_of_wp Try.func64 rfl trivial ?_ rfl
  simp only [Try.ntmps64, List.size_toArray, List.length_cons, List.length_nil, Nat.reduceAdd, Nat.reduceSub, Array.replicate_succ, Array.replicate_zero, List.push_toArray, List.append_toArray, List.nil_append, List.cons_append]
  gi_wp2
  gi_loopw [4] (fun vi wr => ∃ k : Nat, k ≤ N ∧ vi = .int .i64 ((16 * k : Nat) : Int) ∧ J (finL N k) wr ∧ KpC lo hi w0 wr) (fun vi _ => Z - (intOf vi).toNat)
  case atStart => exact ⟨0, Nat.zero_le _, rfl, h0, hW⟩
  case round =>
    obtain ⟨k, hk, rfl, hJs, hbr⟩ := hrel
    have cs : wr.cell? ⟨Bs, 0, none⟩ = some (.slice (some ⟨xb, xo, none⟩) Z xc) := hbr.cell hBs.1 hBs.2 hcs
    have cn : wr.cell? ⟨Bn, 0, none⟩ = some (.int .i64 16) := hbr.cell hBn.1 hBn.2 hcn
    by_cases hlt : k < N
    · obtain ⟨P, hP⟩ : ∃ x : Nat, x = 16 * k := ⟨_, rfl⟩
      obtain ⟨Q, hQ⟩ : ∃ x : Nat, x = P + 16 := ⟨_, rfl⟩
      have hPZ : (P : Int) < (Z : Int) := by omega
      have z_P : (0 : Int) ≤ (P : Int) := Int.natCast_nonneg _
      have l_PZ : (P : Int) ≤ (Z : Int) := by omega
      have e_Q : (P : Int) + 16 = (Q : Int) := by omega
      have s_Q : IntKind.i64.wrap (Q : Int) = (Q : Int) := by rw [IntKind.wrap_i64]; omega
      have l_PQ : (P : Int) ≤ (Q : Int) := by omega
      have l_Qc : (Q : Int) ≤ (xc : Int) := by omega
      have d_QP : Q - P = 16 := by omega
      have n_cP : ¬ xc = P := by omega
      have n_QP : ¬ Q = P := by omega
      obtain ⟨R, hR⟩ : ∃ x : Nat, x = Z - P := ⟨_, rfl⟩
      have l_R : (16 : Int) ≤ (R : Int) := by omega
      have g_R : ¬ ((R : Int) < 16) := by omega
      have HX := hide (And.intro hP (And.intro hQ hR))
      rw [← hP]
      have e_R : Z - P = R := hR.symm
      have HZN := hide hZ
      clear hP hQ hR hZ
      have m_R : min (16 : Int) (R : Int) = 16 := by omega
      gi_wp2
      gi_quiet (fail)
      have hJ2 := hJd _ _ nq hJs
      have hb2 : KpC lo hi w0 (wr.drewN nq) := hbr
      have cs2 : (wr.drewN nq).cell? ⟨Bs, 0, none⟩ = some (.slice (some ⟨xb, xo, none⟩) Z xc) := cs
      have cn2 : (wr.drewN nq).cell? ⟨Bn, 0, none⟩ = some (.int .i64 16) := cn
      generalize wr.drewN nq = W2 at *
      obtain ⟨fn, tmps, assign, body, hy, hR⟩ := hY (finL N k) ⟨k, hlt⟩ W2 hJ2 (by rw [finL_len k hk]; exact hlt)
      have hy2 : (Instr.yield l #[.slice (some ⟨xb, xo + P, none⟩) 16 16]).run Try.prog W2 = .ok (.round l fn tmps assign body) W2 := by rw [HX.out.1]; exact hy
      clear hy cs cn
      gi_wp2
      refine hR.mono ?_
      rintro e W3 (⟨rfl, hJ3, hk3⟩ | ⟨rfl, hJx3⟩)
      · have hb3 := hb2.trans hk3
        have cn3 : W3.cell? ⟨Bn, 0, none⟩ = some (.int .i64 16) := hb3.cell hBn.1 hBn.2 hcn
        gi_wp2
        go_roundw
        case rel => exact ⟨k + 1, by omega, vint (by have := HX.out; omega), by rw [finL_next hlt]; exact hJ3, hb3⟩
        case measure => have := HX.out; simp [intOf]; omega
      · gi_wp2
        refine bodyPost_ret (results_none rfl _ _ _) rfl ?_
        exact ⟨⟨_, rfl⟩, .inr ⟨finL N k ++ [⟨k, hlt⟩], by rw [← finL_next hlt]; exact finL_pre N (Nat.le_refl _) (k + 1) (by omega), hJx3⟩⟩
    · obtain rfl : k = N := by omega
      obtain ⟨P, hP⟩ : ∃ x : Nat, x = 16 * k := ⟨_, rfl⟩
      have hge : ¬ ((P : Int) < (Z : Int)) := by omega
      rw [← hP]
      clear hP hZ
      gi_wp2
      go_end0
      exact ⟨⟨_, rfl⟩, .inl hJs⟩
end Go.Proofs.Yteiknfcegchbcaa

/- A loop over an iterator that is made of another: the contract and the law that serve here. -/
namespace Go.Proofs.Yteiknfcegchbcaa
open Go.RowKit Go.Shelf
set_option linter.unusedVariables false
set_option linter.unusedSimpArgs false

/-- all blocks from lo on are as they were -/
structure Kept (lo : Nat) (W W' : World) : Prop where
  size : W.heap.size ≤ W'.heap.size
  block : ∀ k, lo ≤ k → k < W.heap.size → W'.heap[k]? = W.heap[k]?
theorem Kept.trans {lo : Nat} {A B C : World} (h : Kept lo A B) (k : Kept lo B C) : Kept lo A C := ⟨Nat.le_trans h.size k.size, fun i h1 h2 => (k.block i h1 (Nat.lt_of_lt_of_le h2 h.size)).trans (h.block i h1 h2)⟩
theorem Kept.mono {lo lo' : Nat} {A B : World} (h : Kept lo A B) (hl : lo ≤ lo') : Kept lo' A B := ⟨h.size, fun i h1 h2 => h.block i (by omega) h2⟩
theorem Kept.at {lo : Nat} {A B : World} (h : Kept lo A B) {k : Nat} {o : Obj} (hk : lo ≤ k) (h0 : A.heap[k]? = some o) : B.heap[k]? = some o := (h.block k hk (Array.getElem?_eq_some_iff.1 h0).1).trans h0
theorem kept_put {lo : Nat} {W : World} {l : Nat} (o : Obj) (h : l < lo) : Kept lo W (W.putObj l o) := ⟨by simp [World.putObj], fun k h1 h2 => World.putObj_heap_other (by omega)⟩
/-- an iterator that hands out xs, all of them, to rounds that go on and turn no block of the iterator's own -/
def OwnSeq {α : Type} (m : Nat) (P : Program) (gf : Nat) (lb : Array Value) (encs : α → Array Value) (xs : List α) (V : World → Prop) (w0 : World) : Prop :=
  ∀ (l : Nat) (J : List α → World → Prop) (W : World), Below w0.heap.size w0 W → l < W.heap.size → OwnFrom W.heap.size J → (∀ pre W1, J pre W1 → V W1) →
    (∀ pre x W1, J pre W1 → pre.length < xs.length → W.heap.size ≤ W1.heap.size → YieldAt Fence.wide (m - 1) P l (encs x) W1 fun e W' => e = .returned (.bool true) ∧ J (pre ++ [x]) W' ∧ Kept W.heap.size W1 W') →
    J [] W → CallsIn Fence.wide m P gf (#[.func (.yield l) #[] #[]] ++ lb) W fun e W' => (∃ v, e = .returned v) ∧ J xs W'

/-- what a round's body must leave -/
def goesOn (B : Nat) (W : World) (R : World → Prop) : Exit → Act → World → Prop
  | .normal, _, W' => Kept B W W' ∧ R W'
  | _, _, _ => False
theorem range_ours {α : Type} {n : Nat} {P : Program} {g : Operand} {ps : Array Tmp} {assign body : Code} {Q : Exit → Act → World → Prop} {a : Act} {w : World}
    {gf : Nat} {lb : Array Value} (hg : a.eval g = .func (.func gf) #[] lb) (eg : ∀ args w, (callFunc gf args).run P w = .ok (.enter gf args) w)
    {encs : α → Array Value} {xs : List α} {V : World → Prop} (hseq : OwnSeq (n - 1) P gf lb encs xs V w) (hps : ∀ x, (encs x).size = ps.size)
    (I : List α → World → Prop) (hI : OwnFrom w.heap.size I) (hV : ∀ pre W, I pre W → V W) (h0 : I [] w)
    (Ax : List α → α → Act → World → Prop) (hAx : ∀ pre x a', OwnFrom w.heap.size (fun (_ : Unit) W => Ax pre x a' W))
    (hassign : ∀ (l : Nat) (pre : List α) (x : α) (W : World) (K : Act → World → Prop), I pre W → pre.length < xs.length → (∀ a' W', Kept w.heap.size W W' → Ax pre x a' W' → K a' W') →
      assign.wpIn (Fence.wide.inRound l) (n - 1 - 1) P (Exit.then K (fun _ _ _ => False)) { tmps := (ps.zip (encs x)).foldl (fun t (p, v) => t.setIfInBounds p v) a.tmps, defers := [] } W)
    (hbody : ∀ (l : Nat) (pre : List α) (x : α) (a' : Act) (W : World), Ax pre x a' W → pre.length < xs.length → body.wpIn (Fence.wide.inRound l) (n - 1 - 1) P (goesOn w.heap.size W (I (pre ++ [x]))) a' W)
    (hdone : ∀ (W : World), I xs W → W.heap[w.heap.size]? = some (.deferred (some [])) → Q .normal { a with defers := { target := .collected w.heap.size, args := #[] } :: a.defers } W) :
    (Code.rangeFunc g ps assign body).wpIn Fence.wide n P Q a w := by
  refine wpIn_rangeFunc fun fn hfn => ?_
  generalize hD : w.heap.size = D at *
  obtain ⟨R0, hR0⟩ : ∃ R0 : Loop, R0 = { state := .ready, pending := none, fn, tmps := a.tmps, params := ps, assign, body, defers := D } := ⟨_, rfl⟩
  obtain ⟨W1, hW1⟩ : ∃ W1, W1 = (w.alloc (.deferred (some []))).alloc (.loop R0) := ⟨_, rfl⟩
  have sz1 : W1.heap.size = D + 2 := by rw [hW1]; simp [hD]
  have kD : W1.heap[D]? = some (.deferred (some [])) := by
    rw [hW1, ← hD]; exact (Below.heap_alloc _ _ _ (by simp)).trans (World.alloc_heap_new w _)
  have kL : W1.heap[D + 1]? = some (.loop R0) := by
    have := World.alloc_heap_new (w.alloc (.deferred (some []))) (.loop R0)
    rw [World.size_alloc, hD] at this
    rw [hW1]; exact this
  have I1 : I [] W1 := by rw [hW1]; exact hI.alloc _ (hI.alloc _ h0)
  have b1 : Below w.heap.size w W1 := by rw [hW1]; exact ((Below.refl _ w).alloc (Nat.le_refl _) _).alloc (by simp) _
  refine ⟨D + 1, [{ target := .collected D, args := #[] }], W1, { target := .fn (.func gf) lb, args := #[.func (.yield (D + 1)) #[] #[]] }, W1, gf, #[.func (.yield (D + 1)) #[] #[]] ++ lb, W1, ?_, ?_, ?_, ?_, ?_, ?_⟩
  · have := run_enterLoop_outer (P := P) (w := w) fn a.tmps ps assign body
    rw [hW1, hR0, ← hD]
    exact this
  · simp only [resolve, hg]
    simp [go_sem]
  · intro f' hf'; trivial
  · simp [invoke, go_sem, eg]
  · intro h; cases h
  refine (hseq (D + 1) (fun pre W => I pre W ∧ W.heap[D + 1]? = some (.loop R0) ∧ W.heap[D]? = some (.deferred (some []))) W1 b1 (by omega) ?_ (fun pre W h => hV pre W h.1) ?_ ⟨I1, kL, kD⟩).mono ?_
  · intro s A B row hs hgr hr
    have hr2 : ∀ r, row = some r → D ≤ r ∧ ∃ o : Obj, A.heap[r]? = some o ∧ o.isCells = false := fun r e => ⟨by have := (hr r e).1; omega, (hr r e).2⟩
    have ne : ∀ k, k < D + 2 → some k ≠ row := fun k hk e => by have := (hr k e.symm).1; omega
    exact ⟨hI s A B row hs.1 hgr hr2, (hgr.block _ (Array.getElem?_eq_some_iff.1 hs.2.1).1 (ne _ (by omega))).trans hs.2.1, (hgr.block _ (Array.getElem?_eq_some_iff.1 hs.2.2).1 (ne _ (by omega))).trans hs.2.2⟩
  · rintro pre x W ⟨i1, kl, kd⟩ hpre hsz
    have hy := run_yield (P := P) (args := encs x) kl (by rw [hR0]; exact hps x)
    rw [hR0] at hy
    refine ⟨fn, _, assign, body, hy, roundIn_of_wpIn hfn (hassign (D + 1) pre x W _ i1 hpre ?_)⟩
    intro a' W2 kf2 ax2
    have kl2 := kf2.at (by omega) kl
    have kd2 := kf2.at (Nat.le_refl _) kd
    refine ⟨_, run_beginRound kl2 (by rw [hR0]), ?_⟩
    obtain ⟨RB, hRB⟩ : ∃ RB : Loop, RB = { R0 with state := .busy } := ⟨_, rfl⟩
    rw [← hRB]
    have lt2 := (Array.getElem?_eq_some_iff.1 kl2).1
    have kl3 : (W2.putObj (D + 1) (.loop RB)).heap[D + 1]? = some (.loop RB) := World.putObj_heap_same lt2
    have kd3 : (W2.putObj (D + 1) (.loop RB)).heap[D]? = some (.deferred (some [])) := (World.putObj_heap_other (by omega)).trans kd2
    have ax3 : Ax pre x a' (W2.putObj (D + 1) (.loop RB)) := (hAx pre x a').putObj (s := ()) _ ax2 (by omega) kl2 rfl
    refine wpIn_mono (hbody (D + 1) pre x a' _ ax3 hpre) ?_
    rintro e a4 W4 hp
    cases e with
    | normal =>
      obtain ⟨kf4, i4⟩ := hp
      have kl4 := kf4.at (by omega) kl3
      have kd4 := kf4.at (Nat.le_refl _) kd3
      have hend := run_endRound (P := P) none kl4
      refine ⟨_, _, hend, rfl, ⟨hI.putObj _ i4 (by omega) kl4 rfl, ?_, (World.putObj_heap_other (by omega)).trans kd4⟩, ?_⟩
      · rw [World.putObj_heap_same (Array.getElem?_eq_some_iff.1 kl4).1, hRB, hR0]
        rfl
      · exact (((kf2.mono (by omega)).trans (kept_put _ (by omega))).trans (kf4.mono (by omega))).trans (kept_put _ (by omega))
    | ret => exact hp.elim
    | exit id => exact hp.elim
    | goto t => exact hp.elim
    | panic ch => exact hp.elim
    | outgrown => exact hp.elim
  · rintro e W2 ⟨⟨v, rfl⟩, i2, kl, kd⟩
    exact ⟨none, _, by have := run_endLoop (P := P) kl (by rw [hR0]; simp); rw [hR0] at this; exact this, hdone _ (hI.putObj _ i2 (by omega) kl rfl) ((World.putObj_heap_other (by omega)).trans kd)⟩
end Go.Proofs.Yteiknfcegchbcaa

/- The document's Mul, inverse, Box. -/
namespace Go.Proofs.Yteiknfcegchbcaa
open Go.RowKit
set_option linter.unusedVariables false
set_option linter.unusedSimpArgs false

theorem mulS_next {k a b p : Nat} : mulS (k + 1) a b p = mulS k (xt a) (b / 2) (if b % 2 = 1 then p ^^^ a else p) := rfl
theorem and_1 (b : Nat) (h : b < 256) : bits .and .u8 (b : Int) 1 = ((b % 2 : Nat) : Int) := by
  have : ((List.range 256).all fun b => bits .and .u8 (b : Int) 1 == ((b % 2 : Nat) : Int)) = true := by kernel_rfl
  exact eq_of_beq (all256 this b h)
theorem xor_27 (b : Nat) (h : b < 256) : bits .xor .u8 (b : Int) 27 = ((b ^^^ 27 : Nat) : Int) := by
  have : ((List.range 256).all fun b => bits .xor .u8 (b : Int) 27 == ((b ^^^ 27 : Nat) : Int)) = true := by kernel_rfl
  exact eq_of_beq (all256 this b h)
theorem xt_hi (A : Nat) (h : A < 256) : 128 ≤ A → bits .xor .u8 ((A : Int) * 2 % 256) 27 = ((xt A : Nat) : Int) := fun h1 => by
  have e : ((A : Int) * 2 % 256) = ((2 * A % 256 : Nat) : Int) := by omega
  rw [e, xor_27 _ (by omega)]
  unfold xt
  rw [if_pos h1]
theorem xt_lo (A : Nat) : ¬ 128 ≤ A → (A : Int) * 2 = ((xt A : Nat) : Int) := fun h1 => by
  unfold xt
  rw [if_neg h1]
  omega
/-- where the loop stands -/
def MuL (M : Nat) (va vb vp vi : Value) : Prop := ∃ i A B p : Nat, i ≤ 8 ∧ A < 256 ∧ B < 256 ∧ p < 256 ∧ va = .int .u8 (A : Int) ∧ vb = .int .u8 (B : Int) ∧ vp = .int .u8 (p : Int) ∧ vi = .int .i64 (i : Int) ∧ mulS (8 - i) A B p = M

set_option maxHeartbeats 2000000 in
set_option maxRecDepth 100000 in
theorem rmul_any (a b : Nat) (ha : a < 256) (hb : b < 256) (w : World) : Calls Try.prog 20 #[.int .u8 (a : Int), .int .u8 (b : Int)] w fun e w' => e = .returned (.int .u8 (mulB a b : Nat)) ∧ w' = w := by
  have H0 : Hid (MuL (mulB a b) (.int .u8 (a : Int)) (.int .u8 (b : Int)) (.int .u8 0) (.int .i64 0)) := hide ⟨0, a, b, 0, by decide, ha, hb, by decide, rfl, rfl, rfl, rfl, rfl⟩
  generalize mulB a b = M at *
  go_enter Try.func20, Try.ntmps20
  go_wp2
  go_loop [0, 1, 5, 6] (fun va vb vp vi => MuL M va vb vp vi) (fun _ _ _ vi => 8 - (intOf vi).toNat)
  case atStart => exact H0.out
  case round =>
    obtain ⟨i, A, B, p, hi, hA, hB, hp, rfl, rfl, rfl, rfl, hM⟩ := hrel
    clear H0
    by_cases hlt : i < 8
    · have hli : (i : Int) < 8 := by omega
      have fa := and_1 B hB
      obtain ⟨k, hk⟩ : ∃ k : Nat, 8 - i = k + 1 := ⟨7 - i, by omega⟩
      have hk2 : 8 - (i + 1) = k := by omega
      rw [hk, mulS_next] at hM
      have xA := xt_lt hA
      have fx := u8_xor_nat p A hp hA
      have px := xor_8 hp hA
      have x1 := xt_hi A hA
      have x2 := xt_lo A
      have HH := hide (And.intro hk2 (And.intro xA (And.intro px (And.intro x1 x2))))
      clear hk hk2 xA px x1 x2
      by_cases hodd : B % 2 = 1
      · rw [if_pos hodd] at hM
        rw [hodd] at fa
        have HM := hide hM
        clear hM hodd
        by_cases hhi : 128 ≤ A
        · have hhiI : (128 : Int) ≤ (A : Int) := by omega
          go_wp2
          exact ⟨⟨i + 1, xt A, B / 2, p ^^^ A, by omega, HH.out.2.1, by omega, HH.out.2.2.1, vint (HH.out.2.2.2.1 hhi), vint (by omega), rfl, by go_num, by rw [HH.out.1]; exact HM.out⟩, by simp [intOf]; omega⟩
        · have hhiI : ¬ (128 : Int) ≤ (A : Int) := by omega
          go_wp2
          exact ⟨⟨i + 1, xt A, B / 2, p ^^^ A, by omega, HH.out.2.1, by omega, HH.out.2.2.1, vint (HH.out.2.2.2.2 hhi), vint (by omega), rfl, by go_num, by rw [HH.out.1]; exact HM.out⟩, by simp [intOf]; omega⟩
      · rw [if_neg hodd] at hM
        have hev : B % 2 = 0 := by omega
        rw [hev] at fa
        have HM := hide hM
        clear hM hodd hev
        by_cases hhi : 128 ≤ A
        · have hhiI : (128 : Int) ≤ (A : Int) := by omega
          go_wp2
          exact ⟨⟨i + 1, xt A, B / 2, p, by omega, HH.out.2.1, by omega, hp, vint (HH.out.2.2.2.1 hhi), vint (by omega), rfl, by go_num, by rw [HH.out.1]; exact HM.out⟩, by simp [intOf]; omega⟩
        · have hhiI : ¬ (128 : Int) ≤ (A : Int) := by omega
          go_wp2
          exact ⟨⟨i + 1, xt A, B / 2, p, by omega, HH.out.2.1, by omega, hp, vint (HH.out.2.2.2.2 hhi), vint (by omega), rfl, by go_num, by rw [HH.out.1]; exact HM.out⟩, by simp [intOf]; omega⟩
    · obtain rfl : i = 8 := by omega
      have hM' : p = M := hM
      subst hM'
      go_wp2
      go_ret
      exact ⟨rfl, rfl⟩
/-- where the loop stands -/
def InL (M : Nat) (vc vx vi : Value) : Prop := ∃ i C x : Nat, i ≤ 7 ∧ C < 256 ∧ x < 256 ∧ vc = .int .u8 (C : Int) ∧ vx = .int .u8 (x : Int) ∧ vi = .int .i64 (i : Int) ∧ sqN (7 - i) C x = M
theorem sqN_next {k c x : Nat} : sqN (k + 1) c x = sqN k (mulB c c) (mulB x (mulB c c)) := rfl
set_option maxHeartbeats 2000000 in
set_option maxRecDepth 100000 in
theorem rinv_any (c : Nat) (hc : c < 256) (w : World) : Calls Try.prog 40 #[.int .u8 (c : Int)] w fun e w' => e = .returned (.int .u8 (invB c : Nat)) ∧ w' = w := by
  have H0 : Hid (InL (invB c) (.int .u8 (c : Int)) (.int .u8 1) (.int .i64 0)) := hide ⟨0, c, 1, by decide, hc, by decide, rfl, rfl, rfl, rfl⟩
  generalize invB c = M at *
  go_enter Try.func40, Try.ntmps40
  go_wp2
  go_loop [0, 3, 4] (fun vc vx vi => InL M vc vx vi) (fun _ _ vi => 7 - (intOf vi).toNat)
  case atStart => exact H0.out
  case round =>
    obtain ⟨i, C, x, hi, hC, hx, rfl, rfl, rfl, hM⟩ := hrel
    clear H0
    by_cases hlt : i < 7
    · have hli : (i : Int) < 7 := by omega
      obtain ⟨k, hk⟩ : ∃ k : Nat, 7 - i = k + 1 := ⟨6 - i, by omega⟩
      have hk2 : 7 - (i + 1) = k := by omega
      rw [hk, sqN_next] at hM
      have m1 := mulB_lt (b := C) hC
      have c1 := rmul_any C C hC hC
      generalize mulB C C = D at *
      have m2 := mulB_lt (b := D) hx
      have c2 := rmul_any x D hx m1
      generalize mulB x D = X at *
      have HH := hide (And.intro hk2 hM)
      clear hk hk2 hM
      go_wp2_with fail
      refine (c1 _).mono ?_
      rintro e y ⟨rfl, hy⟩
      obtain rfl := hy.symm
      go_wp2_with fail
      refine (c2 _).mono ?_
      rintro e y ⟨rfl, hy⟩
      obtain rfl := hy.symm
      go_wp2
      exact ⟨⟨i + 1, D, X, by omega, m1, m2, rfl, rfl, by go_num, by rw [HH.out.1]; exact HH.out.2⟩, by simp [intOf]; omega⟩
    · obtain rfl : i = 7 := by omega
      have hM' : x = M := hM
      subst hM'
      go_wp2
      go_ret
      exact ⟨rfl, rfl⟩
theorem rot_0 (x : Nat) (h : x < 256) : bits .or .u8 ((x : Int)) ((x : Int) / 256) = ((rotB x 0 : Nat) : Int) ∧ rotB x 0 < 256 := by
  have : ((List.range 256).all fun x => bits .or .u8 ((x : Int)) ((x : Int) / 256) == ((rotB x 0 : Nat) : Int) && decide (rotB x 0 < 256)) = true := by kernel_rfl
  have := all256 this x h
  rw [Bool.and_eq_true] at this
  exact ⟨eq_of_beq this.1, of_decide_eq_true this.2⟩
theorem rot_1 (x : Nat) (h : x < 256) : bits .or .u8 ((x : Int) * 2 % 256) ((x : Int) / 128) = ((rotB x 1 : Nat) : Int) ∧ rotB x 1 < 256 := by
  have : ((List.range 256).all fun x => bits .or .u8 ((x : Int) * 2 % 256) ((x : Int) / 128) == ((rotB x 1 : Nat) : Int) && decide (rotB x 1 < 256)) = true := by kernel_rfl
  have := all256 this x h
  rw [Bool.and_eq_true] at this
  exact ⟨eq_of_beq this.1, of_decide_eq_true this.2⟩
theorem rot_2 (x : Nat) (h : x < 256) : bits .or .u8 ((x : Int) * 4 % 256) ((x : Int) / 64) = ((rotB x 2 : Nat) : Int) ∧ rotB x 2 < 256 := by
  have : ((List.range 256).all fun x => bits .or .u8 ((x : Int) * 4 % 256) ((x : Int) / 64) == ((rotB x 2 : Nat) : Int) && decide (rotB x 2 < 256)) = true := by kernel_rfl
  have := all256 this x h
  rw [Bool.and_eq_true] at this
  exact ⟨eq_of_beq this.1, of_decide_eq_true this.2⟩
theorem rot_3 (x : Nat) (h : x < 256) : bits .or .u8 ((x : Int) * 8 % 256) ((x : Int) / 32) = ((rotB x 3 : Nat) : Int) ∧ rotB x 3 < 256 := by
  have : ((List.range 256).all fun x => bits .or .u8 ((x : Int) * 8 % 256) ((x : Int) / 32) == ((rotB x 3 : Nat) : Int) && decide (rotB x 3 < 256)) = true := by kernel_rfl
  have := all256 this x h
  rw [Bool.and_eq_true] at this
  exact ⟨eq_of_beq this.1, of_decide_eq_true this.2⟩
theorem rot_4 (x : Nat) (h : x < 256) : bits .or .u8 ((x : Int) * 16 % 256) ((x : Int) / 16) = ((rotB x 4 : Nat) : Int) ∧ rotB x 4 < 256 := by
  have : ((List.range 256).all fun x => bits .or .u8 ((x : Int) * 16 % 256) ((x : Int) / 16) == ((rotB x 4 : Nat) : Int) && decide (rotB x 4 < 256)) = true := by kernel_rfl
  have := all256 this x h
  rw [Bool.and_eq_true] at this
  exact ⟨eq_of_beq this.1, of_decide_eq_true this.2⟩
/-- where the loop stands -/
def BoL (w : World) (x M : Nat) (vy vi : Value) (wr : World) : Prop := ∃ i y q : Nat, i ≤ 5 ∧ y < 256 ∧ vy = .int .u8 (y : Int) ∧ vi = .int .i64 (i : Int) ∧ boxS (5 - i) x i y = M ∧ wr = w.drewN q
theorem boxS_next {k x i y : Nat} : boxS (k + 1) x i y = boxS k x (i + 1) (y ^^^ rotB x i) := rfl
theorem invB_lt {c : Nat} (h : c < 256) : invB c < 256 := by
  have : ((List.range 256).all fun c => decide (invB c < 256)) = true := by kernel_rfl
  exact of_decide_eq_true (all256 this c h)
set_option maxHeartbeats 2000000 in
set_option maxRecDepth 100000 in
theorem rbox_any (c : Nat) (hc : c < 256) (w : World) : Calls Try.prog 18 #[.int .u8 (c : Int)] w fun e w' => e = .returned (.int .u8 (boxB c : Nat)) ∧ Below w.heap.size w w' := by
  have hinv := fun y => rinv_any c hc y
  have hx := invB_lt hc
  have H0 : Hid (BoL w (invB c) (boxB c) (.int .u8 99) (.int .i64 0) w) := hide ⟨0, 99, 0, by decide, by decide, rfl, rfl, rfl, rfl⟩
  generalize boxB c = M at *
  generalize invB c = x at *
  go_enter Try.func18, Try.ntmps18
  go_wp2_with fail
  refine (hinv _).mono ?_
  rintro e y ⟨rfl, hy⟩
  obtain rfl := hy.symm
  go_wp2_with fail
  go_loopw [4, 5] (fun vy vi wr => BoL w x M vy vi wr) (fun _ vi _ => 5 - (intOf vi).toNat)
  case atStart => exact H0.out
  case round =>
    obtain ⟨i, y, q, hi, hy, rfl, rfl, hM, rfl⟩ := hrel
    clear H0 hinv
    by_cases hlt : i < 5
    · have h5 : i = 0 ∨ i = 1 ∨ i = 2 ∨ i = 3 ∨ i = 4 := by omega
      rcases h5 with h | h | h | h | h <;> subst h
      · obtain ⟨fr, rl⟩ := rot_0 x hx
        have hM' : boxS 4 x 1 (y ^^^ rotB x 0) = M := hM
        generalize rotB x 0 = R at *
        have fx := u8_xor_nat y R hy rl
        have py := xor_8 hy rl
        have HM := hide hM'
        clear hM hM'
        go_wp2
        go_quiet (fail)
        go_wp2
        exact ⟨⟨1, y ^^^ R, q + nq, by decide, py, rfl, rfl, HM.out, rfl⟩, by simp [intOf]⟩
      · obtain ⟨fr, rl⟩ := rot_1 x hx
        have hM' : boxS 3 x 2 (y ^^^ rotB x 1) = M := hM
        generalize rotB x 1 = R at *
        have fx := u8_xor_nat y R hy rl
        have py := xor_8 hy rl
        have HM := hide hM'
        clear hM hM'
        go_wp2
        go_quiet (fail)
        go_wp2
        exact ⟨⟨2, y ^^^ R, q + nq, by decide, py, rfl, rfl, HM.out, rfl⟩, by simp [intOf]⟩
      · obtain ⟨fr, rl⟩ := rot_2 x hx
        have hM' : boxS 2 x 3 (y ^^^ rotB x 2) = M := hM
        generalize rotB x 2 = R at *
        have fx := u8_xor_nat y R hy rl
        have py := xor_8 hy rl
        have HM := hide hM'
        clear hM hM'
        go_wp2
        go_quiet (fail)
        go_wp2
        exact ⟨⟨3, y ^^^ R, q + nq, by decide, py, rfl, rfl, HM.out, rfl⟩, by simp [intOf]⟩
      · obtain ⟨fr, rl⟩ := rot_3 x hx
        have hM' : boxS 1 x 4 (y ^^^ rotB x 3) = M := hM
        generalize rotB x 3 = R at *
        have fx := u8_xor_nat y R hy rl
        have py := xor_8 hy rl
        have HM := hide hM'
        clear hM hM'
        go_wp2
        go_quiet (fail)
        go_wp2
        exact ⟨⟨4, y ^^^ R, q + nq, by decide, py, rfl, rfl, HM.out, rfl⟩, by simp [intOf]⟩
      · obtain ⟨fr, rl⟩ := rot_4 x hx
        have hM' : boxS 0 x 5 (y ^^^ rotB x 4) = M := hM
        generalize rotB x 4 = R at *
        have fx := u8_xor_nat y R hy rl
        have py := xor_8 hy rl
        have HM := hide hM'
        clear hM hM'
        go_wp2
        go_quiet (fail)
        go_wp2
        exact ⟨⟨5, y ^^^ R, q + nq, by decide, py, rfl, rfl, HM.out, rfl⟩, by simp [intOf]⟩
    · obtain rfl : i = 5 := by omega
      have hM' : y = M := hM
      subst hM'
      go_wp2
      go_ret
      exact ⟨rfl, below_drewN (Below.refl _ _) q⟩
end Go.Proofs.Yteiknfcegchbcaa
