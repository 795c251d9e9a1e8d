/- The code's iterators: slices.Chunk of 16 bytes. -/
import Derived.RangeFuncBox
import Derived.RangeFuncNested
import Derived.RangeFuncBound
import Derived.RangeFuncCalls
import Derived.RangeFuncLeaves
import Derived.Shelf.Abstract
import Derived.OwnWalkIn
import Derived.TacticsInMore
import Derived.LoopNIn
import Derived.LoopIn
import Derived.Maps.AppendAt
import Derived.Lib.MinMax
import Derived.Sort.QuietIn
import Derived.Test.YtjeofkemfpdieaaAesW
import Derived.Test.YtjeofkemfpdieaaProg
import Derived.Test.YtjeofkemfpdieaaHKi2
import Derived.Test.YtjeofkemfpdieaaGGh
namespace Go.Proofs.Ytjeofkemfpdieaa
open Go.RowKit Go.Shelf
set_option linter.unusedVariables false
set_option linter.unusedSimpArgs false
attribute [local go_sem] Oper.semAt_some

/-- the first k of N numbers -/
def finL (N : Nat) : Nat → List (Fin N)
  | 0 => []
  | k + 1 => if h : k < N then finL N k ++ [⟨k, h⟩] else finL N k
theorem finL_next {N k : Nat} (h : k < N) : finL N (k + 1) = finL N k ++ [⟨k, h⟩] := by show (if h : k < N then _ else _) = _; rw [dif_pos h]
theorem finL_len {N : Nat} : ∀ k, k ≤ N → (finL N k).length = k
  | 0, _ => rfl
  | k + 1, h => by rw [finL_next (by omega), List.length_append, finL_len k (by omega)]; rfl
theorem finL_pre {N : Nat} : ∀ k, k ≤ N → ∀ j, j ≤ k → finL N j <+: finL N k
  | 0, _, j, hj => by obtain rfl : j = 0 := by omega
                      exact List.prefix_refl _
  | k + 1, h, j, hj => by
    by_cases e : j = k + 1
    · rw [e]; exact List.prefix_refl _
    · rw [finL_next (by omega)]
      exact (finL_pre k (by omega) j (by omega)).trans (List.prefix_append _ _)
/-- the blocks from lo up to hi are as they were -/
def KpC (lo hi : Nat) (A B : World) : Prop := ∀ k, lo ≤ k → k < hi → B.heap[k]? = A.heap[k]?
theorem KpC.trans {lo hi : Nat} {A B C : World} (h : KpC lo hi A B) (k : KpC lo hi B C) : KpC lo hi A C := fun i h1 h2 => (k i h1 h2).trans (h i h1 h2)
theorem KpC.cell {lo hi : Nat} {A B : World} (h : KpC lo hi A B) {p : Addr} {v : Value} (h1 : lo ≤ p.block) (h2 : p.block < hi) (hc : A.cell? p = some v) : B.cell? p = some v := by
  rw [World.cell?_of_block (h _ h1 h2)]; exact hc
set_option maxRecDepth 100000 in
set_option maxHeartbeats 4000000 in
theorem chunk1_in (n : Nat) (hn : 1 ≤ n) (l lo hi Bs Bn xb xo xc N Z : Nat) (hZ : Z = 16 * N) (hZc : Z ≤ xc) (hZ6 : xc ≤ 9223372036854775807) (w0 : World) (hBs : lo ≤ Bs ∧ Bs < hi) (hBn : lo ≤ Bn ∧ Bn < hi) (J Jx : List (Fin N) → World → Prop)
    (hY : ∀ pre (x : Fin N) W, J pre W → pre.length < N → YieldAt Fence.wide (n - 1) Try.prog l #[.slice (some ⟨xb, xo + 16 * x.1, none⟩) 16 16] W fun e W' =>
      (e = .returned (.bool true) ∧ J (pre ++ [x]) W' ∧ KpC lo hi W W') ∨ (e = .returned (.bool false) ∧ Jx (pre ++ [x]) W'))
    (hJd : ∀ pre W q, J pre W → J pre (W.drewN q))
    (W : World) (hW : KpC lo hi w0 W) (hcs : w0.cell? ⟨Bs, 0, none⟩ = some (.slice (some ⟨xb, xo, none⟩) Z xc)) (hcn : w0.cell? ⟨Bn, 0, none⟩ = some (.int .i64 16)) (h0 : J [] W) :
    CallsIn Fence.wide n Try.prog 52 #[.func (.yield l) #[] #[], .pointer (some ⟨Bs, 0, none⟩), .pointer (some ⟨Bn, 0, none⟩)] W fun e W' => (∃ v, e = .returned v) ∧
      ((∃ ys, ys = finL N N ∧ J ys W') ∨ (∃ pre, pre <+: finL N N ∧ Jx pre W')) := by
  refine callsIn_of_wp Try.func52 rfl trivial ?_ rfl
  simp only [Try.ntmps52, List.size_toArray, List.length_cons, List.length_nil, Nat.reduceAdd, Nat.reduceSub, Array.replicate_succ, Array.replicate_zero, List.push_toArray, List.append_toArray, List.nil_append, List.cons_append]
  gi_wp2
  gi_loopw [4] (fun vi wr => ∃ k : Nat, k ≤ N ∧ vi = .int .i64 ((16 * k : Nat) : Int) ∧ J (finL N k) wr ∧ KpC lo hi w0 wr) (fun vi _ => Z - (intOf vi).toNat)
  case atStart => exact ⟨0, Nat.zero_le _, rfl, h0, hW⟩
  case round =>
    obtain ⟨k, hk, rfl, hJs, hbr⟩ := hrel
    have cs : wr.cell? ⟨Bs, 0, none⟩ = some (.slice (some ⟨xb, xo, none⟩) Z xc) := hbr.cell hBs.1 hBs.2 hcs
    have cn : wr.cell? ⟨Bn, 0, none⟩ = some (.int .i64 16) := hbr.cell hBn.1 hBn.2 hcn
    by_cases hlt : k < N
    · obtain ⟨P, hP⟩ : ∃ x : Nat, x = 16 * k := ⟨_, rfl⟩
      obtain ⟨Q, hQ⟩ : ∃ x : Nat, x = P + 16 := ⟨_, rfl⟩
      have hPZ : (P : Int) < (Z : Int) := by omega
      have z_P : (0 : Int) ≤ (P : Int) := Int.natCast_nonneg _
      have l_PZ : (P : Int) ≤ (Z : Int) := by omega
      have e_Q : (P : Int) + 16 = (Q : Int) := by omega
      have s_Q : IntKind.i64.wrap (Q : Int) = (Q : Int) := by rw [IntKind.wrap_i64]; omega
      have l_PQ : (P : Int) ≤ (Q : Int) := by omega
      have l_Qc : (Q : Int) ≤ (xc : Int) := by omega
      have d_QP : Q - P = 16 := by omega
      have n_cP : ¬ xc = P := by omega
      have n_QP : ¬ Q = P := by omega
      obtain ⟨R, hR⟩ : ∃ x : Nat, x = Z - P := ⟨_, rfl⟩
      have l_R : (16 : Int) ≤ (R : Int) := by omega
      have g_R : ¬ ((R : Int) < 16) := by omega
      have HX := hide (And.intro hP (And.intro hQ hR))
      rw [← hP]
      have e_R : Z - P = R := hR.symm
      have HZN := hide hZ
      clear hP hQ hR hZ
      have m_R : min (16 : Int) (R : Int) = 16 := by omega
      gi_wp2
      gi_quiet (fail)
      have hJ2 := hJd _ _ nq hJs
      have hb2 : KpC lo hi w0 (wr.drewN nq) := hbr
      have cs2 : (wr.drewN nq).cell? ⟨Bs, 0, none⟩ = some (.slice (some ⟨xb, xo, none⟩) Z xc) := cs
      have cn2 : (wr.drewN nq).cell? ⟨Bn, 0, none⟩ = some (.int .i64 16) := cn
      generalize wr.drewN nq = W2 at *
      obtain ⟨fn, tmps, assign, body, hy, hR⟩ := hY (finL N k) ⟨k, hlt⟩ W2 hJ2 (by rw [finL_len k hk]; exact hlt)
      have hy2 : (Instr.yield l #[.slice (some ⟨xb, xo + P, none⟩) 16 16]).run Try.prog W2 = .ok (.round l fn tmps assign body) W2 := by rw [HX.out.1]; exact hy
      clear hy cs cn
      gi_wp2
      refine hR.mono ?_
      rintro e W3 (⟨rfl, hJ3, hk3⟩ | ⟨rfl, hJx3⟩)
      · have hb3 := hb2.trans hk3
        have cn3 : W3.cell? ⟨Bn, 0, none⟩ = some (.int .i64 16) := hb3.cell hBn.1 hBn.2 hcn
        gi_wp2
        go_roundw
        case rel => exact ⟨k + 1, by omega, vint (by have := HX.out; omega), by rw [finL_next hlt]; exact hJ3, hb3⟩
        case measure => have := HX.out; simp [intOf]; omega
      · gi_wp2
        refine bodyPost_ret (results_none rfl _ _ _) rfl ?_
        exact ⟨⟨_, rfl⟩, .inr ⟨finL N k ++ [⟨k, hlt⟩], by rw [← finL_next hlt]; exact finL_pre N (Nat.le_refl _) (k + 1) (by omega), hJx3⟩⟩
    · obtain rfl : k = N := by omega
      obtain ⟨P, hP⟩ : ∃ x : Nat, x = 16 * k := ⟨_, rfl⟩
      have hge : ¬ ((P : Int) < (Z : Int)) := by omega
      rw [← hP]
      clear hP hZ
      gi_wp2
      go_end0
      exact ⟨⟨_, rfl⟩, .inl hJs⟩
end Go.Proofs.Ytjeofkemfpdieaa

/- A loop over an iterator that is made of another: the contract and the law that serve here. -/
namespace Go.Proofs.Ytjeofkemfpdieaa
open Go.RowKit Go.Shelf
set_option linter.unusedVariables false
set_option linter.unusedSimpArgs false

/-- all blocks from lo on are as they were -/
structure Kept (lo : Nat) (W W' : World) : Prop where
  size : W.heap.size ≤ W'.heap.size
  block : ∀ k, lo ≤ k → k < W.heap.size → W'.heap[k]? = W.heap[k]?
theorem Kept.trans {lo : Nat} {A B C : World} (h : Kept lo A B) (k : Kept lo B C) : Kept lo A C := ⟨Nat.le_trans h.size k.size, fun i h1 h2 => (k.block i h1 (Nat.lt_of_lt_of_le h2 h.size)).trans (h.block i h1 h2)⟩
theorem Kept.mono {lo lo' : Nat} {A B : World} (h : Kept lo A B) (hl : lo ≤ lo') : Kept lo' A B := ⟨h.size, fun i h1 h2 => h.block i (by omega) h2⟩
theorem Kept.at {lo : Nat} {A B : World} (h : Kept lo A B) {k : Nat} {o : Obj} (hk : lo ≤ k) (h0 : A.heap[k]? = some o) : B.heap[k]? = some o := (h.block k hk (Array.getElem?_eq_some_iff.1 h0).1).trans h0
theorem kept_put {lo : Nat} {W : World} {l : Nat} (o : Obj) (h : l < lo) : Kept lo W (W.putObj l o) := ⟨by simp [World.putObj], fun k h1 h2 => World.putObj_heap_other (by omega)⟩
/-- an iterator that hands out xs, all of them, to rounds that go on and turn no block of the iterator's own -/
def OwnSeq {α : Type} (m : Nat) (P : Program) (gf : Nat) (lb : Array Value) (encs : α → Array Value) (xs : List α) (V : World → Prop) (w0 : World) : Prop :=
  ∀ (l : Nat) (J : List α → World → Prop) (W : World), Below w0.heap.size w0 W → l < W.heap.size → OwnFrom W.heap.size J → (∀ pre W1, J pre W1 → V W1) →
    (∀ pre x W1, J pre W1 → pre.length < xs.length → W.heap.size ≤ W1.heap.size → YieldAt Fence.wide (m - 1) P l (encs x) W1 fun e W' => e = .returned (.bool true) ∧ J (pre ++ [x]) W' ∧ Kept W.heap.size W1 W') →
    J [] W → CallsIn Fence.wide m P gf (#[.func (.yield l) #[] #[]] ++ lb) W fun e W' => (∃ v, e = .returned v) ∧ J xs W'

/-- what a round's body must leave -/
def goesOn (B : Nat) (W : World) (R : World → Prop) : Exit → Act → World → Prop
  | .normal, _, W' => Kept B W W' ∧ R W'
  | _, _, _ => False
theorem range_ours {α : Type} {n : Nat} {P : Program} {g : Operand} {ps : Array Tmp} {assign body : Code} {Q : Exit → Act → World → Prop} {a : Act} {w : World}
    {gf : Nat} {lb : Array Value} (hg : a.eval g = .func (.func gf) #[] lb) (eg : ∀ args w, (callFunc gf args).run P w = .ok (.enter gf args) w)
    {encs : α → Array Value} {xs : List α} {V : World → Prop} (hseq : OwnSeq (n - 1) P gf lb encs xs V w) (hps : ∀ x, (encs x).size = ps.size)
    (I : List α → World → Prop) (hI : OwnFrom w.heap.size I) (hV : ∀ pre W, I pre W → V W) (h0 : I [] w)
    (Ax : List α → α → Act → World → Prop) (hAx : ∀ pre x a', OwnFrom w.heap.size (fun (_ : Unit) W => Ax pre x a' W))
    (hassign : ∀ (l : Nat) (pre : List α) (x : α) (W : World) (K : Act → World → Prop), I pre W → pre.length < xs.length → (∀ a' W', Kept w.heap.size W W' → Ax pre x a' W' → K a' W') →
      assign.wpIn (Fence.wide.inRound l) (n - 1 - 1) P (Exit.then K (fun _ _ _ => False)) { tmps := (ps.zip (encs x)).foldl (fun t (p, v) => t.setIfInBounds p v) a.tmps, defers := [] } W)
    (hbody : ∀ (l : Nat) (pre : List α) (x : α) (a' : Act) (W : World), Ax pre x a' W → pre.length < xs.length → body.wpIn (Fence.wide.inRound l) (n - 1 - 1) P (goesOn w.heap.size W (I (pre ++ [x]))) a' W)
    (hdone : ∀ (W : World), I xs W → W.heap[w.heap.size]? = some (.deferred (some [])) → Q .normal { a with defers := { target := .collected w.heap.size, args := #[] } :: a.defers } W) :
    (Code.rangeFunc g ps assign body).wpIn Fence.wide n P Q a w := by
  refine wpIn_rangeFunc fun fn hfn => ?_
  generalize hD : w.heap.size = D at *
  obtain ⟨R0, hR0⟩ : ∃ R0 : Loop, R0 = { state := .ready, pending := none, fn, tmps := a.tmps, params := ps, assign, body, defers := D } := ⟨_, rfl⟩
  obtain ⟨W1, hW1⟩ : ∃ W1, W1 = (w.alloc (.deferred (some []))).alloc (.loop R0) := ⟨_, rfl⟩
  have sz1 : W1.heap.size = D + 2 := by rw [hW1]; simp [hD]
  have kD : W1.heap[D]? = some (.deferred (some [])) := by
    rw [hW1, ← hD]; exact (Below.heap_alloc _ _ _ (by simp)).trans (World.alloc_heap_new w _)
  have kL : W1.heap[D + 1]? = some (.loop R0) := by
    have := World.alloc_heap_new (w.alloc (.deferred (some []))) (.loop R0)
    rw [World.size_alloc, hD] at this
    rw [hW1]; exact this
  have I1 : I [] W1 := by rw [hW1]; exact hI.alloc _ (hI.alloc _ h0)
  have b1 : Below w.heap.size w W1 := by rw [hW1]; exact ((Below.refl _ w).alloc (Nat.le_refl _) _).alloc (by simp) _
  refine ⟨D + 1, [{ target := .collected D, args := #[] }], W1, { target := .fn (.func gf) lb, args := #[.func (.yield (D + 1)) #[] #[]] }, W1, gf, #[.func (.yield (D + 1)) #[] #[]] ++ lb, W1, ?_, ?_, ?_, ?_, ?_, ?_⟩
  · have := run_enterLoop_outer (P := P) (w := w) fn a.tmps ps assign body
    rw [hW1, hR0, ← hD]
    exact this
  · simp only [resolve, hg]
    simp [go_sem]
  · intro f' hf'; trivial
  · simp [invoke, go_sem, eg]
  · intro h; cases h
  refine (hseq (D + 1) (fun pre W => I pre W ∧ W.heap[D + 1]? = some (.loop R0) ∧ W.heap[D]? = some (.deferred (some []))) W1 b1 (by omega) ?_ (fun pre W h => hV pre W h.1) ?_ ⟨I1, kL, kD⟩).mono ?_
  · intro s A B row hs hgr hr
    have hr2 : ∀ r, row = some r → D ≤ r ∧ ∃ o : Obj, A.heap[r]? = some o ∧ o.isCells = false := fun r e => ⟨by have := (hr r e).1; omega, (hr r e).2⟩
    have ne : ∀ k, k < D + 2 → some k ≠ row := fun k hk e => by have := (hr k e.symm).1; omega
    exact ⟨hI s A B row hs.1 hgr hr2, (hgr.block _ (Array.getElem?_eq_some_iff.1 hs.2.1).1 (ne _ (by omega))).trans hs.2.1, (hgr.block _ (Array.getElem?_eq_some_iff.1 hs.2.2).1 (ne _ (by omega))).trans hs.2.2⟩
  · rintro pre x W ⟨i1, kl, kd⟩ hpre hsz
    have hy := run_yield (P := P) (args := encs x) kl (by rw [hR0]; exact hps x)
    rw [hR0] at hy
    refine ⟨fn, _, assign, body, hy, roundIn_of_wpIn hfn (hassign (D + 1) pre x W _ i1 hpre ?_)⟩
    intro a' W2 kf2 ax2
    have kl2 := kf2.at (by omega) kl
    have kd2 := kf2.at (Nat.le_refl _) kd
    refine ⟨_, run_beginRound kl2 (by rw [hR0]), ?_⟩
    obtain ⟨RB, hRB⟩ : ∃ RB : Loop, RB = { R0 with state := .busy } := ⟨_, rfl⟩
    rw [← hRB]
    have lt2 := (Array.getElem?_eq_some_iff.1 kl2).1
    have kl3 : (W2.putObj (D + 1) (.loop RB)).heap[D + 1]? = some (.loop RB) := World.putObj_heap_same lt2
    have kd3 : (W2.putObj (D + 1) (.loop RB)).heap[D]? = some (.deferred (some [])) := (World.putObj_heap_other (by omega)).trans kd2
    have ax3 : Ax pre x a' (W2.putObj (D + 1) (.loop RB)) := (hAx pre x a').putObj (s := ()) _ ax2 (by omega) kl2 rfl
    refine wpIn_mono (hbody (D + 1) pre x a' _ ax3 hpre) ?_
    rintro e a4 W4 hp
    cases e with
    | normal =>
      obtain ⟨kf4, i4⟩ := hp
      have kl4 := kf4.at (by omega) kl3
      have kd4 := kf4.at (Nat.le_refl _) kd3
      have hend := run_endRound (P := P) none kl4
      refine ⟨_, _, hend, rfl, ⟨hI.putObj _ i4 (by omega) kl4 rfl, ?_, (World.putObj_heap_other (by omega)).trans kd4⟩, ?_⟩
      · rw [World.putObj_heap_same (Array.getElem?_eq_some_iff.1 kl4).1, hRB, hR0]
        rfl
      · exact (((kf2.mono (by omega)).trans (kept_put _ (by omega))).trans (kf4.mono (by omega))).trans (kept_put _ (by omega))
    | ret => exact hp.elim
    | exit id => exact hp.elim
    | goto t => exact hp.elim
    | panic ch => exact hp.elim
    | outgrown => exact hp.elim
  · rintro e W2 ⟨⟨v, rfl⟩, i2, kl, kd⟩
    exact ⟨none, _, by have := run_endLoop (P := P) kl (by rw [hR0]; simp); rw [hR0] at this; exact this, hdone _ (hI.putObj _ i2 (by omega) kl rfl) ((World.putObj_heap_other (by omega)).trans kd)⟩
end Go.Proofs.Ytjeofkemfpdieaa

/- slices.Chunk of 16 bytes, the last part of as many as there are. -/
namespace Go.Proofs.Ytjeofkemfpdieaa
open Go.RowKit Go.Shelf
set_option linter.unusedVariables false
set_option linter.unusedSimpArgs false
attribute [local go_sem] Oper.semAt_some

/-- a part of a text, as a slice -/
def chkV (xb xo Z i : Nat) : Value := .slice (some ⟨xb, xo + 16 * i, none⟩) (min 16 (Z - 16 * i)) (min 16 (Z - 16 * i))
theorem grown_belowQ {W y : World} (hb : Below W.heap.size W y) : W.grownBy y none := ⟨hb.os, hb.tape, hb.output, hb.size, fun k hk _ => hb.block k hk⟩
theorem grown_drewQ (W : World) (q : Nat) : W.grownBy (W.drewN q) none := ⟨rfl, rfl, rfl, Nat.le_refl _, fun _ _ _ => rfl⟩
set_option maxHeartbeats 2000000 in
set_option maxRecDepth 100000 in
theorem chunkQ_make (a : Option Addr) (n c : Nat) (w : World) :
    Calls Try.prog 39 #[.slice a n c, .int .i64 16] w fun e w' => e = .returned (.func (.func 52) #[] #[.pointer (some ⟨w.heap.size, 0, none⟩), .pointer (some ⟨w.heap.size + 1, 0, none⟩)]) ∧ w' = (w.alloc (.cells #[.slice a n c] 22)).alloc (.cells #[.int .i64 16] 3) := by
  go_enter Try.func39, Try.ntmps39
  go_wp2
  go_ret
  exact ⟨rfl, rfl⟩
set_option maxRecDepth 100000 in
set_option maxHeartbeats 4000000 in
theorem chunkQ_own (m : Nat) (hm : 2 ≤ m) (Bs Bn : Nat) (ad : Option Addr) (xb xo xc N Z : Nat) (hN : N = (Z + 15) / 16) (had : 0 < Z → ad = some ⟨xb, xo, none⟩) (hZc : Z ≤ xc) (hZ6 : xc ≤ 9223372036854775807) (hZ9 : Z ≤ 100000000) (w0 : World) (V : World → Prop)
    (hV : ∀ W, V W → W.cell? ⟨Bs, 0, none⟩ = some (.slice ad Z xc) ∧ W.cell? ⟨Bn, 0, none⟩ = some (.int .i64 16)) :
    OwnSeq m Try.prog 52 #[.pointer (some ⟨Bs, 0, none⟩), .pointer (some ⟨Bn, 0, none⟩)] (fun i : Fin N => #[chkV xb xo Z i.1]) (finL N N) V w0 := by
  intro l J W hW hlW hJ hJV hY h0
  show CallsIn Fence.wide m Try.prog 52 #[.func (.yield l) #[] #[], .pointer (some ⟨Bs, 0, none⟩), .pointer (some ⟨Bn, 0, none⟩)] W _
  have h1m : 1 ≤ m := by omega
  refine callsIn_of_wp Try.func52 rfl trivial ?_ rfl
  simp only [Try.ntmps52, List.size_toArray, List.length_cons, List.length_nil, Nat.reduceAdd, Nat.reduceSub, Array.replicate_succ, Array.replicate_zero, List.push_toArray, List.append_toArray, List.nil_append, List.cons_append]
  have cV0 := hV _ (hJV _ _ h0)
  gi_wp2
  gi_loopw [4] (fun vi wr => ∃ k : Nat, k ≤ N ∧ vi = .int .i64 ((16 * k : Nat) : Int) ∧ J (finL N k) wr ∧ W.heap.size ≤ wr.heap.size) (fun vi _ => 16 * N - (intOf vi).toNat)
  case atStart => exact ⟨0, Nat.zero_le _, rfl, h0, Nat.le_refl _⟩
  case round =>
    obtain ⟨k, hk, rfl, hJs, hsz⟩ := hrel
    clear cV0
    obtain ⟨cs, cn⟩ := hV _ (hJV _ _ hJs)
    by_cases hlt : k < N
    · have hZ0 : 0 < Z := by omega
      obtain rfl := had hZ0
      obtain ⟨P, hP⟩ : ∃ x : Nat, x = 16 * k := ⟨_, rfl⟩
      obtain ⟨R, hR⟩ : ∃ x : Nat, x = Z - P := ⟨_, rfl⟩
      obtain ⟨L, hL⟩ : ∃ x : Nat, x = min 16 R := ⟨_, rfl⟩
      obtain ⟨E, hE⟩ : ∃ x : Nat, x = P + L := ⟨_, rfl⟩
      obtain ⟨Q, hQ⟩ : ∃ x : Nat, x = P + 16 := ⟨_, rfl⟩
      have hPZ : (P : Int) < (Z : Int) := by omega
      have z_P : (0 : Int) ≤ (P : Int) := Int.natCast_nonneg _
      have l_PZ : (P : Int) ≤ (Z : Int) := by omega
      have e_E : (P : Int) + (L : Int) = (E : Int) := by omega
      have s_E : IntKind.i64.wrap (E : Int) = (E : Int) := by rw [IntKind.wrap_i64]; omega
      have e_Q : (P : Int) + 16 = (Q : Int) := by omega
      have s_Q : IntKind.i64.wrap (Q : Int) = (Q : Int) := by rw [IntKind.wrap_i64]; omega
      have l_PE : (P : Int) ≤ (E : Int) := by omega
      have l_Ec : (E : Int) ≤ (xc : Int) := by omega
      have l_Zc : (Z : Int) ≤ (xc : Int) := by omega
      have d_EP : E - P = L := by omega
      have n_cP : ¬ xc = P := by omega
      have n_EP : ¬ E = P := by omega
      have m_R : min (16 : Int) (R : Int) = (L : Int) := by omega
      have e_R : Z - P = R := hR.symm
      have hcv : chkV xb xo Z k = .slice (some ⟨xb, xo + P, none⟩) L L := by unfold chkV; rw [← hP, ← hR, ← hL]
      have HX := hide (And.intro hP (And.intro hQ (And.intro hR (And.intro hL hE))))
      rw [← hP]
      have HZN := hide (And.intro hN (And.intro hZ9 (And.intro hZc hZ6)))
      have hyy : ∀ y, W.heap.size ≤ y.heap.size → J (finL N k) y → YieldAt Fence.wide (m - 1) Try.prog l #[.slice (some ⟨xb, xo + P, none⟩) L L] y fun e W' => e = .returned (.bool true) ∧ J (finL N (k + 1)) W' ∧ Kept W.heap.size y W' := fun y hy hj => by
        have := hY (finL N k) ⟨k, hlt⟩ y hj (by rw [finL_len k hk, finL_len N (Nat.le_refl _)]; exact hlt) hy
        rw [finL_next hlt]
        dsimp only at this
        rw [hcv] at this
        exact this
      clear hP hQ hR hL hE hN hZ9 hZc hZ6
      gi_wp2
      gi_quiet (fail)
      have hJ2 : J (finL N k) (wr.drewN nq) := hJ _ wr _ none hJs (grown_drewQ _ _) (fun r e => by cases e)
      have cs2 : (wr.drewN nq).cell? ⟨Bs, 0, none⟩ = some (.slice (some ⟨xb, xo, none⟩) Z xc) := cs
      have cn2 : (wr.drewN nq).cell? ⟨Bn, 0, none⟩ = some (.int .i64 16) := cn
      have sz2 : W.heap.size ≤ (wr.drewN nq).heap.size := hsz
      generalize wr.drewN nq = W2 at *
      obtain ⟨fn, tmps, assign, body, hy, hR⟩ := hyy W2 sz2 hJ2
      clear cs cn
      gi_wp2
      refine hR.mono ?_
      rintro e W3 ⟨rfl, hJ3, hk3⟩
      obtain ⟨cs3, cn3⟩ := hV _ (hJV _ _ hJ3)
      gi_wp2
      go_roundw
      case rel => exact ⟨k + 1, by omega, vint (by have := HX.out; omega), hJ3, by have := hk3.size; omega⟩
      case measure => have := HX.out; have := HZN.out; simp [intOf]; omega
    · obtain rfl : k = N := by omega
      obtain ⟨P, hP⟩ : ∃ x : Nat, x = 16 * k := ⟨_, rfl⟩
      have hge : ¬ ((P : Int) < (Z : Int)) := by omega
      rw [← hP]
      clear hP hN hZ9
      gi_wp2
      go_end0
      exact ⟨⟨_, rfl⟩, hJs⟩
end Go.Proofs.Ytjeofkemfpdieaa

/- Wrapped keys: the code's split: a text's words of 8 bytes, by slices.Chunk and slices.Collect. -/
namespace Go.Proofs.Ytjeofkemfpdieaa
open Go.RowKit Go.Shelf
set_option linter.unusedVariables false
set_option linter.unusedSimpArgs false
attribute [local go_sem] Oper.semAt_some

set_option maxRecDepth 100000 in
set_option maxHeartbeats 4000000 in
theorem chunk8_in (n : Nat) (hn : 1 ≤ n) (l lo hi Bs Bn xb xo xc N Z : Nat) (hZ : Z = 8 * N) (hZc : Z ≤ xc) (hZ6 : xc ≤ 9223372036854775807) (w0 : World) (hBs : lo ≤ Bs ∧ Bs < hi) (hBn : lo ≤ Bn ∧ Bn < hi) (J Jx : List (Fin N) → World → Prop)
    (hY : ∀ pre (x : Fin N) W, J pre W → pre.length < N → YieldAt Fence.wide (n - 1) Try.prog l #[.slice (some ⟨xb, xo + 8 * x.1, none⟩) 8 8] W fun e W' =>
      (e = .returned (.bool true) ∧ J (pre ++ [x]) W' ∧ KpC lo hi W W') ∨ (e = .returned (.bool false) ∧ Jx (pre ++ [x]) W'))
    (hJd : ∀ pre W q, J pre W → J pre (W.drewN q))
    (W : World) (hW : KpC lo hi w0 W) (hcs : w0.cell? ⟨Bs, 0, none⟩ = some (.slice (some ⟨xb, xo, none⟩) Z xc)) (hcn : w0.cell? ⟨Bn, 0, none⟩ = some (.int .i64 8)) (h0 : J [] W) :
    CallsIn Fence.wide n Try.prog 52 #[.func (.yield l) #[] #[], .pointer (some ⟨Bs, 0, none⟩), .pointer (some ⟨Bn, 0, none⟩)] W fun e W' => (∃ v, e = .returned v) ∧
      ((∃ ys, ys = finL N N ∧ J ys W') ∨ (∃ pre, pre <+: finL N N ∧ Jx pre W')) := by
  refine callsIn_of_wp Try.func52 rfl trivial ?_ rfl
  simp only [Try.ntmps52, List.size_toArray, List.length_cons, List.length_nil, Nat.reduceAdd, Nat.reduceSub, Array.replicate_succ, Array.replicate_zero, List.push_toArray, List.append_toArray, List.nil_append, List.cons_append]
  gi_wp2
  gi_loopw [4] (fun vi wr => ∃ k : Nat, k ≤ N ∧ vi = .int .i64 ((8 * k : Nat) : Int) ∧ J (finL N k) wr ∧ KpC lo hi w0 wr) (fun vi _ => Z - (intOf vi).toNat)
  case atStart => exact ⟨0, Nat.zero_le _, rfl, h0, hW⟩
  case round =>
    obtain ⟨k, hk, rfl, hJs, hbr⟩ := hrel
    have cs : wr.cell? ⟨Bs, 0, none⟩ = some (.slice (some ⟨xb, xo, none⟩) Z xc) := hbr.cell hBs.1 hBs.2 hcs
    have cn : wr.cell? ⟨Bn, 0, none⟩ = some (.int .i64 8) := hbr.cell hBn.1 hBn.2 hcn
    by_cases hlt : k < N
    · obtain ⟨P, hP⟩ : ∃ x : Nat, x = 8 * k := ⟨_, rfl⟩
      obtain ⟨Q, hQ⟩ : ∃ x : Nat, x = P + 8 := ⟨_, rfl⟩
      have hPZ : (P : Int) < (Z : Int) := by omega
      have z_P : (0 : Int) ≤ (P : Int) := Int.natCast_nonneg _
      have l_PZ : (P : Int) ≤ (Z : Int) := by omega
      have e_Q : (P : Int) + 8 = (Q : Int) := by omega
      have s_Q : IntKind.i64.wrap (Q : Int) = (Q : Int) := by rw [IntKind.wrap_i64]; omega
      have l_PQ : (P : Int) ≤ (Q : Int) := by omega
      have l_Qc : (Q : Int) ≤ (xc : Int) := by omega
      have d_QP : Q - P = 8 := by omega
      have n_cP : ¬ xc = P := by omega
      have n_QP : ¬ Q = P := by omega
      obtain ⟨R, hR⟩ : ∃ x : Nat, x = Z - P := ⟨_, rfl⟩
      have l_R : (8 : Int) ≤ (R : Int) := by omega
      have g_R : ¬ ((R : Int) < 8) := by omega
      have HX := hide (And.intro hP (And.intro hQ hR))
      rw [← hP]
      have e_R : Z - P = R := hR.symm
      have HZN := hide hZ
      clear hP hQ hR hZ
      have m_R : min (8 : Int) (R : Int) = 8 := by omega
      gi_wp2
      gi_quiet (fail)
      have hJ2 := hJd _ _ nq hJs
      have hb2 : KpC lo hi w0 (wr.drewN nq) := hbr
      have cs2 : (wr.drewN nq).cell? ⟨Bs, 0, none⟩ = some (.slice (some ⟨xb, xo, none⟩) Z xc) := cs
      have cn2 : (wr.drewN nq).cell? ⟨Bn, 0, none⟩ = some (.int .i64 8) := cn
      generalize wr.drewN nq = W2 at *
      obtain ⟨fn, tmps, assign, body, hy, hR⟩ := hY (finL N k) ⟨k, hlt⟩ W2 hJ2 (by rw [finL_len k hk]; exact hlt)
      have hy2 : (Instr.yield l #[.slice (some ⟨xb, xo + P, none⟩) 8 8]).run Try.prog W2 = .ok (.round l fn tmps assign body) W2 := by rw [HX.out.1]; exact hy
      clear hy cs cn
      gi_wp2
      refine hR.mono ?_
      rintro e W3 (⟨rfl, hJ3, hk3⟩ | ⟨rfl, hJx3⟩)
      · have hb3 := hb2.trans hk3
        have cn3 : W3.cell? ⟨Bn, 0, none⟩ = some (.int .i64 8) := hb3.cell hBn.1 hBn.2 hcn
        gi_wp2
        go_roundw
        case rel => exact ⟨k + 1, by omega, vint (by have := HX.out; omega), by rw [finL_next hlt]; exact hJ3, hb3⟩
        case measure => have := HX.out; simp [intOf]; omega
      · gi_wp2
        refine bodyPost_ret (results_none rfl _ _ _) rfl ?_
        exact ⟨⟨_, rfl⟩, .inr ⟨finL N k ++ [⟨k, hlt⟩], by rw [← finL_next hlt]; exact finL_pre N (Nat.le_refl _) (k + 1) (by omega), hJx3⟩⟩
    · obtain rfl : k = N := by omega
      obtain ⟨P, hP⟩ : ∃ x : Nat, x = 8 * k := ⟨_, rfl⟩
      have hge : ¬ ((P : Int) < (Z : Int)) := by omega
      rw [← hP]
      clear hP hZ
      gi_wp2
      go_end0
      exact ⟨⟨_, rfl⟩, .inl hJs⟩

set_option maxHeartbeats 2000000 in
set_option maxRecDepth 100000 in
theorem chunk8_make (xb xo xc Z : Nat) (w : World) :
    Calls Try.prog 39 #[.slice (some ⟨xb, xo, none⟩) Z xc, .int .i64 8] w fun e w' => e = .returned (.func (.func 52) #[] #[.pointer (some ⟨w.heap.size, 0, none⟩), .pointer (some ⟨w.heap.size + 1, 0, none⟩)]) ∧ w' = (w.alloc (.cells #[.slice (some ⟨xb, xo, none⟩) Z xc] 22)).alloc (.cells #[.int .i64 8] 3) := by
  go_enter Try.func39, Try.ntmps39
  go_wp2
  go_ret
  exact ⟨rfl, rfl⟩
theorem grown_drewN8 (W : World) (q : Nat) : W.grownBy (W.drewN q) none := ⟨rfl, rfl, rfl, Nat.le_refl _, fun _ _ _ => rfl⟩
theorem chunk8_stops (n : Nat) (hn : 1 ≤ n) (Bs Bn xb xo xc N Z : Nat) (hZ : Z = 8 * N) (hZc : Z ≤ xc) (hZ6 : xc ≤ 9223372036854775807) (w : World) (hBs : Bs < w.heap.size) (hBn : Bn < w.heap.size)
    (hcs : w.cell? ⟨Bs, 0, none⟩ = some (.slice (some ⟨xb, xo, none⟩) Z xc)) (hcn : w.cell? ⟨Bn, 0, none⟩ = some (.int .i64 8)) :
    SeqStopsK Fence.wide n Try.prog 52 #[.pointer (some ⟨Bs, 0, none⟩), .pointer (some ⟨Bn, 0, none⟩)] (fun x : Fin N => #[Value.slice (some ⟨xb, xo + 8 * x.1, none⟩) 8 8]) (KpC 0 w.heap.size) (fun ys => ys = finL N N) (fun pre => pre <+: finL N N) N w :=
  fun l J Jx W hW hJ hJx hY h0 => chunk8_in n hn l 0 w.heap.size Bs Bn xb xo xc N Z hZ hZc hZ6 w ⟨Nat.zero_le _, hBs⟩ ⟨Nat.zero_le _, hBn⟩ J Jx hY (fun pre W q h => hJ pre W _ none h (grown_drewN8 W q) (fun r e => by cases e)) W (fun k _ h2 => hW.block k h2) hcs hcn h0
/-- a word of a text, as a slice -/
def enc8 (xb xo i : Nat) : Value := .slice (some ⟨xb, xo + 8 * i, none⟩) 8 8
def enc8L (xb xo N : Nat) : List Value := (finL N N).map fun i => enc8 xb xo i.1
theorem cells_kept8 {A B : World} {row : Option Nat} (hg : A.grownBy B row) (hr : ∀ r, row = some r → ∃ o : Obj, A.heap[r]? = some o ∧ o.isCells = false) {k : Nat} {cs : Array Value} {t : TypeId} {fz : Nat × Nat} (h : A.heap[k]? = some (.cells cs t fz)) : B.heap[k]? = some (.cells cs t fz) := by
  refine (hg.block k (Array.getElem?_eq_some_iff.1 h).1 fun e => ?_).trans h
  obtain ⟨o, ho, hc⟩ := hr k e.symm
  rw [h] at ho
  cases ho
  cases hc
theorem owns_kept8 {A B : World} {row : Option Nat} {base : Nat} {e : TypeId} {v : Value} {n : Nat} {xs : List Value} (h : A.ownsRow base e 1 v n xs) (hg : A.grownBy B row) (hr : ∀ r, row = some r → ∃ o : Obj, A.heap[r]? = some o ∧ o.isCells = false) : B.ownsRow base e 1 v n xs := by
  refine h.kept hg ?_
  rcases h.2 with ⟨rfl, _⟩ | ⟨g, cap, cur, rfl, _, hgb, _⟩
  · exact .inl rfl
  · refine .inr fun e' => ?_
    obtain ⟨o, ho, hc⟩ := hr g (by simpa [Value.ownBlock] using e'.symm)
    rw [hgb] at ho; cases ho; cases hc
theorem owns_mono8 {w : World} {B B' : Nat} {e : TypeId} {v : Value} {n : Nat} {xs : List Value} (h : w.ownsRow B e 1 v n xs) (hB : B' ≤ B) : w.ownsRow B' e 1 v n xs := by
  obtain ⟨h1, h2⟩ := h
  refine ⟨h1, ?_⟩
  rcases h2 with h2 | ⟨g, cap, cur, h3, h4, h5⟩
  · exact .inl h2
  · exact .inr ⟨g, cap, cur, h3, Nat.le_trans hB h4, h5⟩
end Go.Proofs.Ytjeofkemfpdieaa
