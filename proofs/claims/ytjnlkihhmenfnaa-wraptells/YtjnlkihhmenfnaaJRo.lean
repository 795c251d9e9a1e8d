/- A loop over an iterator that is made of another: the contract and the law that serve here. -/
import Derived.RangeFuncBox
import Derived.RangeFuncNested
import Derived.RangeFuncBound
import Derived.RangeFuncCalls
import Derived.RangeFuncLeaves
import Derived.Shelf.Abstract
import Derived.OwnWalkIn
import Derived.Test.YtjnlkihhmenfnaaProg
import Derived.Test.YtjnlkihhmenfnaaAEch
import Derived.Test.YtjnlkihhmenfnaaPApp
import Derived.Stop.RegionWithIn
import Derived.Test.YtjnlkihhmenfnaaABox
namespace Go.Proofs.Ytjnlkihhmenfnaa
open Go.RowKit Go.Shelf
set_option linter.unusedVariables false
set_option linter.unusedSimpArgs false

/-- all blocks from lo on are as they were -/
structure Kept (lo : Nat) (W W' : World) : Prop where
  size : W.heap.size ≤ W'.heap.size
  block : ∀ k, lo ≤ k → k < W.heap.size → W'.heap[k]? = W.heap[k]?
theorem Kept.trans {lo : Nat} {A B C : World} (h : Kept lo A B) (k : Kept lo B C) : Kept lo A C := ⟨Nat.le_trans h.size k.size, fun i h1 h2 => (k.block i h1 (Nat.lt_of_lt_of_le h2 h.size)).trans (h.block i h1 h2)⟩
theorem Kept.mono {lo lo' : Nat} {A B : World} (h : Kept lo A B) (hl : lo ≤ lo') : Kept lo' A B := ⟨h.size, fun i h1 h2 => h.block i (by omega) h2⟩
theorem Kept.at {lo : Nat} {A B : World} (h : Kept lo A B) {k : Nat} {o : Obj} (hk : lo ≤ k) (h0 : A.heap[k]? = some o) : B.heap[k]? = some o := (h.block k hk (Array.getElem?_eq_some_iff.1 h0).1).trans h0
theorem kept_put {lo : Nat} {W : World} {l : Nat} (o : Obj) (h : l < lo) : Kept lo W (W.putObj l o) := ⟨by simp [World.putObj], fun k h1 h2 => World.putObj_heap_other (by omega)⟩
/-- an iterator that hands out xs, all of them, to rounds that go on and turn no block of the iterator's own -/
def OwnSeq {α : Type} (m : Nat) (P : Program) (gf : Nat) (lb : Array Value) (encs : α → Array Value) (xs : List α) (V : World → Prop) (w0 : World) : Prop :=
  ∀ (l : Nat) (J : List α → World → Prop) (W : World), Below w0.heap.size w0 W → l < W.heap.size → OwnFrom W.heap.size J → (∀ pre W1, J pre W1 → V W1) →
    (∀ pre x W1, J pre W1 → pre.length < xs.length → W.heap.size ≤ W1.heap.size → YieldAt Fence.wide (m - 1) P l (encs x) W1 fun e W' => e = .returned (.bool true) ∧ J (pre ++ [x]) W' ∧ Kept W.heap.size W1 W') →
    J [] W → CallsIn Fence.wide m P gf (#[.func (.yield l) #[] #[]] ++ lb) W fun e W' => (∃ v, e = .returned v) ∧ J xs W'

/-- what a round's body must leave -/
def goesOn (B : Nat) (W : World) (R : World → Prop) : Exit → Act → World → Prop
  | .normal, _, W' => Kept B W W' ∧ R W'
  | _, _, _ => False
theorem range_ours {α : Type} {n : Nat} {P : Program} {g : Operand} {ps : Array Tmp} {assign body : Code} {Q : Exit → Act → World → Prop} {a : Act} {w : World}
    {gf : Nat} {lb : Array Value} (hg : a.eval g = .func (.func gf) #[] lb) (eg : ∀ args w, (callFunc gf args).run P w = .ok (.enter gf args) w)
    {encs : α → Array Value} {xs : List α} {V : World → Prop} (hseq : OwnSeq (n - 1) P gf lb encs xs V w) (hps : ∀ x, (encs x).size = ps.size)
    (I : List α → World → Prop) (hI : OwnFrom w.heap.size I) (hV : ∀ pre W, I pre W → V W) (h0 : I [] w)
    (Ax : List α → α → Act → World → Prop) (hAx : ∀ pre x a', OwnFrom w.heap.size (fun (_ : Unit) W => Ax pre x a' W))
    (hassign : ∀ (l : Nat) (pre : List α) (x : α) (W : World) (K : Act → World → Prop), I pre W → pre.length < xs.length → (∀ a' W', Kept w.heap.size W W' → Ax pre x a' W' → K a' W') →
      assign.wpIn (Fence.wide.inRound l) (n - 1 - 1) P (Exit.then K (fun _ _ _ => False)) { tmps := (ps.zip (encs x)).foldl (fun t (p, v) => t.setIfInBounds p v) a.tmps, defers := [] } W)
    (hbody : ∀ (l : Nat) (pre : List α) (x : α) (a' : Act) (W : World), Ax pre x a' W → pre.length < xs.length → body.wpIn (Fence.wide.inRound l) (n - 1 - 1) P (goesOn w.heap.size W (I (pre ++ [x]))) a' W)
    (hdone : ∀ (W : World), I xs W → W.heap[w.heap.size]? = some (.deferred (some [])) → Q .normal { a with defers := { target := .collected w.heap.size, args := #[] } :: a.defers } W) :
    (Code.rangeFunc g ps assign body).wpIn Fence.wide n P Q a w := by
  refine wpIn_rangeFunc fun fn hfn => ?_
  generalize hD : w.heap.size = D at *
  obtain ⟨R0, hR0⟩ : ∃ R0 : Loop, R0 = { state := .ready, pending := none, fn, tmps := a.tmps, params := ps, assign, body, defers := D } := ⟨_, rfl⟩
  obtain ⟨W1, hW1⟩ : ∃ W1, W1 = (w.alloc (.deferred (some []))).alloc (.loop R0) := ⟨_, rfl⟩
  have sz1 : W1.heap.size = D + 2 := by rw [hW1]; simp [hD]
  have kD : W1.heap[D]? = some (.deferred (some [])) := by
    rw [hW1, ← hD]; exact (Below.heap_alloc _ _ _ (by simp)).trans (World.alloc_heap_new w _)
  have kL : W1.heap[D + 1]? = some (.loop R0) := by
    have := World.alloc_heap_new (w.alloc (.deferred (some []))) (.loop R0)
    rw [World.size_alloc, hD] at this
    rw [hW1]; exact this
  have I1 : I [] W1 := by rw [hW1]; exact hI.alloc _ (hI.alloc _ h0)
  have b1 : Below w.heap.size w W1 := by rw [hW1]; exact ((Below.refl _ w).alloc (Nat.le_refl _) _).alloc (by simp) _
  refine ⟨D + 1, [{ target := .collected D, args := #[] }], W1, { target := .fn (.func gf) lb, args := #[.func (.yield (D + 1)) #[] #[]] }, W1, gf, #[.func (.yield (D + 1)) #[] #[]] ++ lb, W1, ?_, ?_, ?_, ?_, ?_, ?_⟩
  · have := run_enterLoop_outer (P := P) (w := w) fn a.tmps ps assign body
    rw [hW1, hR0, ← hD]
    exact this
  · simp only [resolve, hg]
    simp [go_sem]
  · intro f' hf'; trivial
  · simp [invoke, go_sem, eg]
  · intro h; cases h
  refine (hseq (D + 1) (fun pre W => I pre W ∧ W.heap[D + 1]? = some (.loop R0) ∧ W.heap[D]? = some (.deferred (some []))) W1 b1 (by omega) ?_ (fun pre W h => hV pre W h.1) ?_ ⟨I1, kL, kD⟩).mono ?_
  · intro s A B row hs hgr hr
    have hr2 : ∀ r, row = some r → D ≤ r ∧ ∃ o : Obj, A.heap[r]? = some o ∧ o.isCells = false := fun r e => ⟨by have := (hr r e).1; omega, (hr r e).2⟩
    have ne : ∀ k, k < D + 2 → some k ≠ row := fun k hk e => by have := (hr k e.symm).1; omega
    exact ⟨hI s A B row hs.1 hgr hr2, (hgr.block _ (Array.getElem?_eq_some_iff.1 hs.2.1).1 (ne _ (by omega))).trans hs.2.1, (hgr.block _ (Array.getElem?_eq_some_iff.1 hs.2.2).1 (ne _ (by omega))).trans hs.2.2⟩
  · rintro pre x W ⟨i1, kl, kd⟩ hpre hsz
    have hy := run_yield (P := P) (args := encs x) kl (by rw [hR0]; exact hps x)
    rw [hR0] at hy
    refine ⟨fn, _, assign, body, hy, roundIn_of_wpIn hfn (hassign (D + 1) pre x W _ i1 hpre ?_)⟩
    intro a' W2 kf2 ax2
    have kl2 := kf2.at (by omega) kl
    have kd2 := kf2.at (Nat.le_refl _) kd
    refine ⟨_, run_beginRound kl2 (by rw [hR0]), ?_⟩
    obtain ⟨RB, hRB⟩ : ∃ RB : Loop, RB = { R0 with state := .busy } := ⟨_, rfl⟩
    rw [← hRB]
    have lt2 := (Array.getElem?_eq_some_iff.1 kl2).1
    have kl3 : (W2.putObj (D + 1) (.loop RB)).heap[D + 1]? = some (.loop RB) := World.putObj_heap_same lt2
    have kd3 : (W2.putObj (D + 1) (.loop RB)).heap[D]? = some (.deferred (some [])) := (World.putObj_heap_other (by omega)).trans kd2
    have ax3 : Ax pre x a' (W2.putObj (D + 1) (.loop RB)) := (hAx pre x a').putObj (s := ()) _ ax2 (by omega) kl2 rfl
    refine wpIn_mono (hbody (D + 1) pre x a' _ ax3 hpre) ?_
    rintro e a4 W4 hp
    cases e with
    | normal =>
      obtain ⟨kf4, i4⟩ := hp
      have kl4 := kf4.at (by omega) kl3
      have kd4 := kf4.at (Nat.le_refl _) kd3
      have hend := run_endRound (P := P) none kl4
      refine ⟨_, _, hend, rfl, ⟨hI.putObj _ i4 (by omega) kl4 rfl, ?_, (World.putObj_heap_other (by omega)).trans kd4⟩, ?_⟩
      · rw [World.putObj_heap_same (Array.getElem?_eq_some_iff.1 kl4).1, hRB, hR0]
        rfl
      · exact (((kf2.mono (by omega)).trans (kept_put _ (by omega))).trans (kf4.mono (by omega))).trans (kept_put _ (by omega))
    | ret => exact hp.elim
    | exit id => exact hp.elim
    | goto t => exact hp.elim
    | panic ch => exact hp.elim
    | outgrown => exact hp.elim
  · rintro e W2 ⟨⟨v, rfl⟩, i2, kl, kd⟩
    exact ⟨none, _, by have := run_endLoop (P := P) kl (by rw [hR0]; simp); rw [hR0] at this; exact this, hdone _ (hI.putObj _ i2 (by omega) kl rfl) ((World.putObj_heap_other (by omega)).trans kd)⟩
end Go.Proofs.Ytjnlkihhmenfnaa

/- Wrapped keys: the code's iterators over the steps, in order and back. -/
namespace Go.Proofs.Ytjnlkihhmenfnaa
open Go.RowKit Go.Shelf
set_option linter.unusedVariables false
set_option linter.unusedSimpArgs false
attribute [local go_sem] Oper.semAt_some

/-- the last k of N numbers, the last one first -/
def bckL (N : Nat) : Nat → List (Fin N)
  | 0 => []
  | k + 1 => if h : k < N then bckL N k ++ [⟨N - 1 - k, by omega⟩] else bckL N k
theorem bckL_next {N k : Nat} (h : k < N) : bckL N (k + 1) = bckL N k ++ [⟨N - 1 - k, by omega⟩] := by show (if h : k < N then _ else _) = _; rw [dif_pos h]
theorem bckL_len {N : Nat} : ∀ k, k ≤ N → (bckL N k).length = k
  | 0, _ => rfl
  | k + 1, h => by rw [bckL_next (by omega), List.length_append, bckL_len k (by omega)]; rfl
/-- what a step hands out -/
def stpV (n i : Nat) : Array Value := #[.int .u64 ((i + 1 : Nat) : Int), .int .i64 ((i % n : Nat) : Int)]
set_option maxHeartbeats 2000000 in
set_option maxRecDepth 100000 in
theorem there_any (a : Option Addr) (n c : Nat) (w : World) :
    Calls Try.prog 14 #[.slice a n c] w fun e w' => e = .returned (.func (.func 30) #[] #[.pointer (some ⟨w.heap.size, 0, none⟩)]) ∧ w' = w.alloc (.cells #[.slice a n c] 34) := by
  go_enter Try.func14, Try.ntmps14
  go_wp2
  go_ret
  exact ⟨rfl, rfl⟩
set_option maxHeartbeats 2000000 in
set_option maxRecDepth 100000 in
theorem back_any (a : Option Addr) (n c : Nat) (w : World) :
    Calls Try.prog 23 #[.slice a n c] w fun e w' => e = .returned (.func (.func 44) #[] #[.pointer (some ⟨w.heap.size, 0, none⟩)]) ∧ w' = w.alloc (.cells #[.slice a n c] 34) := by
  go_enter Try.func23, Try.ntmps23
  go_wp2
  go_ret
  exact ⟨rfl, rfl⟩
theorem grown_below8 {W y : World} (hb : Below W.heap.size W y) : W.grownBy y none := ⟨hb.os, hb.tape, hb.output, hb.size, fun k hk _ => hb.block k hk⟩
set_option maxHeartbeats 4000000 in
set_option maxRecDepth 100000 in
theorem there1_own (m : Nat) (hm : 2 ≤ m) (Bl : Nat) (a : Option Addr) (n c K : Nat) (hK : K = 6 * n) (hn : 1 ≤ n) (hn2 : n ≤ 1000) (w0 : World) (V : World → Prop) (hV : ∀ W, V W → W.cell? ⟨Bl, 0, none⟩ = some (.slice a n c)) :
    OwnSeq m Try.prog 30 #[.pointer (some ⟨Bl, 0, none⟩)] (fun i : Fin K => stpV n i.1) (finL K K) V w0 := by
  intro l J W hW hlW hJ hJV hY h0
  show CallsIn Fence.wide m Try.prog 30 #[.func (.yield l) #[] #[], .pointer (some ⟨Bl, 0, none⟩)] W _
  have h1m : 1 ≤ m := by omega
  have cB := hV _ (hJV _ _ h0)
  have hst := steps_any a n c W hn2
  rw [← hK] at hst
  have hK2 : K ≤ 6000 := by omega
  clear hK
  refine callsIn_of_wp Try.func30 rfl trivial ?_ rfl
  simp only [Try.ntmps30, List.size_toArray, List.length_cons, List.length_nil, Nat.reduceAdd, Nat.reduceSub, Array.replicate_succ, Array.replicate_zero, List.push_toArray, List.append_toArray, List.nil_append, List.cons_append]
  gi_wp2_with (refine ⟨trivial, ?_⟩; gi_at_call 31; refine (callsIn_wide.2 hst).mono ?_; rintro e w' ⟨rfl, he⟩; obtain rfl := he.symm)
  gi_loopw [6] (fun vi wr => ∃ k : Nat, k ≤ K ∧ vi = .int .i64 ((k : Nat) : Int) ∧ J (finL K k) wr ∧ W.heap.size ≤ wr.heap.size) (fun vi _ => K - (intOf vi).toNat)
  case atStart => exact ⟨0, Nat.zero_le _, rfl, h0, Nat.le_refl _⟩
  case round =>
    obtain ⟨k, hk, rfl, hJs, hsz⟩ := hrel
    have cs := hV _ (hJV _ _ hJs)
    by_cases hlt : k < K
    · have hli : (k : Int) < (K : Int) := by omega
      obtain ⟨Q, hQ⟩ : ∃ x : Nat, x = k + 1 := ⟨_, rfl⟩
      have e_Q : (k : Int) + 1 = (Q : Int) := by omega
      have s_Q : IntKind.i64.wrap (Q : Int) = (Q : Int) := by rw [IntKind.wrap_i64]; omega
      have hsp := step_any a n c k wr hn (by omega) hn2
      obtain ⟨S, hS⟩ : ∃ x : Nat, x = k + 1 := ⟨_, rfl⟩
      obtain ⟨M, hM⟩ : ∃ x : Nat, x = k % n := ⟨_, rfl⟩
      rw [← hS, ← hM] at hsp
      have hyy : ∀ y, Below wr.heap.size wr y → YieldAt Fence.wide (m - 1) Try.prog l #[.int .u64 (S : Int), .int .i64 (M : Int)] y fun e W' => e = .returned (.bool true) ∧ J (finL K (k + 1)) W' ∧ Kept W.heap.size y W' := fun y hb => by
        have := hY (finL K k) ⟨k, hlt⟩ y (hJ _ wr y none hJs (grown_below8 hb) (fun r e => by cases e)) (by rw [finL_len k hk, finL_len K (Nat.le_refl _)]; exact hlt) (by have := hb.size; omega)
        rw [finL_next hlt, hS, hM]
        exact this
      have HX := hide (And.intro hQ (And.intro hS hM))
      clear hQ hS hM
      gi_wp2_with (first
        | (refine ⟨trivial, ?_⟩; gi_at_call 32; refine (callsIn_wide.2 hsp).mono ?_; rintro e w1 ⟨rfl, hb1⟩; obtain ⟨fn, tmps, assign, body, hy, hR⟩ := hyy w1 hb1)
        | (refine hR.mono ?_; rintro e W3 ⟨rfl, hJ3, hk3⟩)
        | fail)
      go_roundw
      case rel => exact ⟨k + 1, by omega, vint (by have := HX.out; omega), hJ3, by have := hb1.size; have := hk3.size; omega⟩
      case measure => have := HX.out; simp [intOf]; omega
    · obtain rfl : k = K := by omega
      have hge : ¬ ((k : Int) < (k : Int)) := by omega
      gi_wp2
      go_end0
      exact ⟨⟨_, rfl⟩, hJs⟩
set_option maxHeartbeats 4000000 in
set_option maxRecDepth 100000 in
theorem back1_own (m : Nat) (hm : 2 ≤ m) (Bl : Nat) (a : Option Addr) (n c K : Nat) (hK : K = 6 * n) (hn : 1 ≤ n) (hn2 : n ≤ 1000) (w0 : World) (V : World → Prop) (hV : ∀ W, V W → W.cell? ⟨Bl, 0, none⟩ = some (.slice a n c)) :
    OwnSeq m Try.prog 44 #[.pointer (some ⟨Bl, 0, none⟩)] (fun i : Fin K => stpV n i.1) (bckL K K) V w0 := by
  intro l J W hW hlW hJ hJV hY h0
  show CallsIn Fence.wide m Try.prog 44 #[.func (.yield l) #[] #[], .pointer (some ⟨Bl, 0, none⟩)] W _
  have h1m : 1 ≤ m := by omega
  have cB := hV _ (hJV _ _ h0)
  have hst := steps_any a n c W hn2
  rw [← hK] at hst
  have hK2 : K ≤ 6000 := by omega
  have hK1 : 1 ≤ K := by omega
  obtain ⟨K1, hK3⟩ : ∃ x : Nat, x = K - 1 := ⟨_, rfl⟩
  have e_K : (K : Int) - 1 = (K1 : Int) := by omega
  have s_K : IntKind.i64.wrap (K1 : Int) = (K1 : Int) := by rw [IntKind.wrap_i64]; omega
  have HK := hide (And.intro hK3 (And.intro hK1 hK2))
  clear hK hK3
  refine callsIn_of_wp Try.func44 rfl trivial ?_ rfl
  simp only [Try.ntmps44, List.size_toArray, List.length_cons, List.length_nil, Nat.reduceAdd, Nat.reduceSub, Array.replicate_succ, Array.replicate_zero, List.push_toArray, List.append_toArray, List.nil_append, List.cons_append]
  gi_wp2_with (refine ⟨trivial, ?_⟩; gi_at_call 31; refine (callsIn_wide.2 hst).mono ?_; rintro e w' ⟨rfl, he⟩; obtain rfl := he.symm)
  gi_loopw [3] (fun vi wr => ∃ (k : Nat) (x : Int), k ≤ K ∧ x = (K : Int) - 1 - (k : Int) ∧ vi = .int .i64 x ∧ J (bckL K k) wr ∧ W.heap.size ≤ wr.heap.size) (fun vi _ => (intOf vi + 1).toNat)
  case atStart => exact ⟨0, K1, Nat.zero_le _, by have := HK.out; omega, rfl, h0, Nat.le_refl _⟩
  case round =>
    obtain ⟨k, x, hk, hx, rfl, hJs, hsz⟩ := hrel
    have cs := hV _ (hJV _ _ hJs)
    by_cases hlt : k < K
    · obtain ⟨t, ht⟩ : ∃ t : Nat, t = K - 1 - k := ⟨_, rfl⟩
      have hxt : x = (t : Int) := by omega
      subst hxt
      have hge : (0 : Int) ≤ (t : Int) := Int.natCast_nonneg _
      obtain ⟨Q, hQ⟩ : ∃ x : Int, x = (t : Int) - 1 := ⟨_, rfl⟩
      have s_Q : IntKind.i64.wrap Q = Q := by rw [IntKind.wrap_i64]; omega
      have hsp := step_any a n c t wr hn (by omega) hn2
      obtain ⟨S, hS⟩ : ∃ x : Nat, x = t + 1 := ⟨_, rfl⟩
      obtain ⟨M, hM⟩ : ∃ x : Nat, x = t % n := ⟨_, rfl⟩
      rw [← hS, ← hM] at hsp
      have hyy : ∀ y, Below wr.heap.size wr y → YieldAt Fence.wide (m - 1) Try.prog l #[.int .u64 (S : Int), .int .i64 (M : Int)] y fun e W' => e = .returned (.bool true) ∧ J (bckL K (k + 1)) W' ∧ Kept W.heap.size y W' := fun y hb => by
        have := hY (bckL K k) ⟨K - 1 - k, by omega⟩ y (hJ _ wr y none hJs (grown_below8 hb) (fun r e => by cases e)) (by rw [bckL_len k hk, bckL_len K (Nat.le_refl _)]; exact hlt) (by have := hb.size; omega)
        rw [bckL_next hlt, hS, hM, ht]
        exact this
      have e_Q : (t : Int) - 1 = Q := hQ.symm
      have HX := hide (And.intro hQ (And.intro hS (And.intro hM (And.intro ht hx))))
      clear hQ hS hM ht hx
      gi_wp2_with (first
        | (refine ⟨trivial, ?_⟩; gi_at_call 32; refine (callsIn_wide.2 hsp).mono ?_; rintro e w1 ⟨rfl, hb1⟩; obtain ⟨fn, tmps, assign, body, hy, hR⟩ := hyy w1 hb1)
        | (refine hR.mono ?_; rintro e W3 ⟨rfl, hJ3, hk3⟩)
        | fail)
      go_roundw
      case rel => exact ⟨k + 1, Q, by omega, by have := HX.out; omega, rfl, hJ3, by have := hb1.size; have := hk3.size; omega⟩
      case measure => have := HX.out; simp [intOf]; omega
    · obtain rfl : k = K := by omega
      have hge : ¬ ((0 : Int) ≤ x) := by omega
      have HX := hide hx
      clear hx
      gi_wp2
      go_end0
      exact ⟨⟨_, rfl⟩, hJs⟩
end Go.Proofs.Ytjnlkihhmenfnaa

/- The code's words: RotateLeft32, turned, gathered, boxed. -/
namespace Go.Proofs.Ytjnlkihhmenfnaa
open Go.RowKit
set_option linter.unusedVariables false
set_option linter.unusedSimpArgs false

theorem or_int (x y : Nat) (hx : x < 4294967296) (hy : y < 4294967296) : bits .or .u32 (x : Int) (y : Int) = ((x ||| y : Nat) : Int) := u32_or_nat x y hx hy
theorem rot_int1 {a b c d : Nat} (ha : a < 256) (hb : b < 256) (hc : c < 256) (hd : d < 256) : bits .or .u32 ((wd a b c d : Nat) * 256 % 4294967296) ((wd a b c d : Nat) / 16777216 : Int) = ((wd b c d a : Nat) : Int) := by
  have h := wd_lt ha hb hc hd
  rw [← trn_1 ha hb hc hd]
  generalize wd a b c d = W at *
  have e1 : ((W : Int) * 256 % 4294967296) = ((W * 256 % 4294967296 : Nat) : Int) := by simp
  have e2 : ((W : Int) / 16777216) = ((W / 16777216 : Nat) : Int) := by simp
  rw [e1, e2, or_int _ _ (Nat.mod_lt _ (by decide)) (by omega)]
set_option maxHeartbeats 2000000 in
set_option maxRecDepth 100000 in
theorem rotl_1 {a b c d : Nat} (ha : a < 256) (hb : b < 256) (hc : c < 256) (hd : d < 256) (w : World) : Calls Try.prog 75 #[.int .u32 (wd a b c d : Nat), .int .i64 8] w fun e w' => e = .returned (.int .u32 (wd b c d a : Nat)) ∧ w' = w := by
  have h := wd_lt ha hb hc hd
  have HR := hide (rot_int1 ha hb hc hd)
  have fk : bits .and .u64 8 31 = 8 := by decide
  generalize wd a b c d = W at *
  have hi : (W : Int) < 4294967296 := by omega
  go_enter Try.func75, Try.ntmps75
  go_wp2
  go_ret
  exact ⟨ret_int HR.out, rfl⟩
set_option maxHeartbeats 2000000 in
set_option maxRecDepth 100000 in
theorem turned_1 {a b c d : Nat} (ha : a < 256) (hb : b < 256) (hc : c < 256) (hd : d < 256) (w : World) : Calls Try.prog 55 #[.int .u32 (wd a b c d : Nat), .int .i64 1] w fun e w' => e = .returned (.int .u32 (wd b c d a : Nat)) ∧ w' = w := by
  have h := wd_lt ha hb hc hd
  have hr := fun y => rotl_1 ha hb hc hd y
  generalize wd a b c d = W at *
  generalize wd b c d a = V at *
  go_enter Try.func55, Try.ntmps55
  go_wp2_with fail
  refine (hr _).mono ?_
  rintro e y ⟨rfl, hy⟩
  obtain rfl := hy.symm
  go_wp2
  go_ret
  exact ⟨rfl, rfl⟩
theorem rot_int2 {a b c d : Nat} (ha : a < 256) (hb : b < 256) (hc : c < 256) (hd : d < 256) : bits .or .u32 ((wd a b c d : Nat) * 65536 % 4294967296) ((wd a b c d : Nat) / 65536 : Int) = ((wd c d a b : Nat) : Int) := by
  have h := wd_lt ha hb hc hd
  rw [← trn_2 ha hb hc hd]
  generalize wd a b c d = W at *
  have e1 : ((W : Int) * 65536 % 4294967296) = ((W * 65536 % 4294967296 : Nat) : Int) := by simp
  have e2 : ((W : Int) / 65536) = ((W / 65536 : Nat) : Int) := by simp
  rw [e1, e2, or_int _ _ (Nat.mod_lt _ (by decide)) (by omega)]
set_option maxHeartbeats 2000000 in
set_option maxRecDepth 100000 in
theorem rotl_2 {a b c d : Nat} (ha : a < 256) (hb : b < 256) (hc : c < 256) (hd : d < 256) (w : World) : Calls Try.prog 75 #[.int .u32 (wd a b c d : Nat), .int .i64 16] w fun e w' => e = .returned (.int .u32 (wd c d a b : Nat)) ∧ w' = w := by
  have h := wd_lt ha hb hc hd
  have HR := hide (rot_int2 ha hb hc hd)
  have fk : bits .and .u64 16 31 = 16 := by decide
  generalize wd a b c d = W at *
  have hi : (W : Int) < 4294967296 := by omega
  go_enter Try.func75, Try.ntmps75
  go_wp2
  go_ret
  exact ⟨ret_int HR.out, rfl⟩
set_option maxHeartbeats 2000000 in
set_option maxRecDepth 100000 in
theorem turned_2 {a b c d : Nat} (ha : a < 256) (hb : b < 256) (hc : c < 256) (hd : d < 256) (w : World) : Calls Try.prog 55 #[.int .u32 (wd a b c d : Nat), .int .i64 2] w fun e w' => e = .returned (.int .u32 (wd c d a b : Nat)) ∧ w' = w := by
  have h := wd_lt ha hb hc hd
  have hr := fun y => rotl_2 ha hb hc hd y
  generalize wd a b c d = W at *
  generalize wd c d a b = V at *
  go_enter Try.func55, Try.ntmps55
  go_wp2_with fail
  refine (hr _).mono ?_
  rintro e y ⟨rfl, hy⟩
  obtain rfl := hy.symm
  go_wp2
  go_ret
  exact ⟨rfl, rfl⟩
theorem rot_int3 {a b c d : Nat} (ha : a < 256) (hb : b < 256) (hc : c < 256) (hd : d < 256) : bits .or .u32 ((wd a b c d : Nat) * 16777216 % 4294967296) ((wd a b c d : Nat) / 256 : Int) = ((wd d a b c : Nat) : Int) := by
  have h := wd_lt ha hb hc hd
  rw [← trn_3 ha hb hc hd]
  generalize wd a b c d = W at *
  have e1 : ((W : Int) * 16777216 % 4294967296) = ((W * 16777216 % 4294967296 : Nat) : Int) := by simp
  have e2 : ((W : Int) / 256) = ((W / 256 : Nat) : Int) := by simp
  rw [e1, e2, or_int _ _ (Nat.mod_lt _ (by decide)) (by omega)]
set_option maxHeartbeats 2000000 in
set_option maxRecDepth 100000 in
theorem rotl_3 {a b c d : Nat} (ha : a < 256) (hb : b < 256) (hc : c < 256) (hd : d < 256) (w : World) : Calls Try.prog 75 #[.int .u32 (wd a b c d : Nat), .int .i64 24] w fun e w' => e = .returned (.int .u32 (wd d a b c : Nat)) ∧ w' = w := by
  have h := wd_lt ha hb hc hd
  have HR := hide (rot_int3 ha hb hc hd)
  have fk : bits .and .u64 24 31 = 24 := by decide
  generalize wd a b c d = W at *
  have hi : (W : Int) < 4294967296 := by omega
  go_enter Try.func75, Try.ntmps75
  go_wp2
  go_ret
  exact ⟨ret_int HR.out, rfl⟩
set_option maxHeartbeats 2000000 in
set_option maxRecDepth 100000 in
theorem turned_3 {a b c d : Nat} (ha : a < 256) (hb : b < 256) (hc : c < 256) (hd : d < 256) (w : World) : Calls Try.prog 55 #[.int .u32 (wd a b c d : Nat), .int .i64 3] w fun e w' => e = .returned (.int .u32 (wd d a b c : Nat)) ∧ w' = w := by
  have h := wd_lt ha hb hc hd
  have hr := fun y => rotl_3 ha hb hc hd y
  generalize wd a b c d = W at *
  generalize wd d a b c = V at *
  go_enter Try.func55, Try.ntmps55
  go_wp2_with fail
  refine (hr _).mono ?_
  rintro e y ⟨rfl, hy⟩
  obtain rfl := hy.symm
  go_wp2
  go_ret
  exact ⟨rfl, rfl⟩
theorem gat_int {a b c d : Nat} (ha : a < 256) (hb : b < 256) (hc : c < 256) (hd : d < 256) : bits .or .u32 (bits .or .u32 (bits .or .u32 ((a : Int) * 16777216) ((b : Int) * 65536)) ((c : Int) * 256)) (d : Int) = ((wd a b c d : Nat) : Int) := by
  rw [← wd_gather ha hb hc hd]
  have e1 : (a : Int) * 16777216 = ((a * 16777216 : Nat) : Int) := by simp
  have e2 : (b : Int) * 65536 = ((b * 65536 : Nat) : Int) := by simp
  have e3 : (c : Int) * 256 = ((c * 256 : Nat) : Int) := by simp
  have o : ∀ x y : Nat, x < 4294967296 → y < 4294967296 → x ||| y < 4294967296 := fun x y hx hy => Nat.or_lt_two_pow (n := 32) hx hy
  rw [e1, e2, e3, or_int _ _ (by omega) (by omega), or_int _ _ (o _ _ (by omega) (by omega)) (by omega), or_int _ _ (o _ _ (o _ _ (by omega) (by omega)) (by omega)) (by omega)]
/-- a table of 256 bytes lies from a place on -/
def Tab (w : World) (g o : Nat) (T : List Nat) : Prop := ∀ c, c < 256 → w.cell? ⟨g, o + c, none⟩ = some (.int .u8 (el T c))
theorem Tab.below {w w' : World} {g o : Nat} {T : List Nat} (h : Tab w g o T) (hb : Below w.heap.size w w') : Tab w' g o T := fun c hc => keep_cell (h c hc) hb
theorem Tab.but {w w' : World} {g o q : Nat} {T : List Nat} (h : Tab w g o T) (hb : But q w w') (hn : g ≠ q) : Tab w' g o T := fun c hc => But.cell (h c hc) hb hn
set_option maxHeartbeats 4000000 in
set_option maxRecDepth 100000 in
theorem gath_any (g o : Nat) (T : List Nat) (W0 W1 W2 W3 a b c d : Nat) (hT : Under 256 T) (l0 : W0 < 4294967296) (l1 : W1 < 4294967296) (l2 : W2 < 4294967296) (l3 : W3 < 4294967296) (h0 : W0 / 16777216 = a) (h1 : W1 / 65536 % 256 = b) (h2 : W2 / 256 % 256 = c) (h3 : W3 % 256 = d) (w : World) (hw : Tab w g o T) :
    Calls Try.prog 74 #[.pointer (some ⟨g, o, none⟩), .int .u32 (W0 : Int), .int .u32 (W1 : Int), .int .u32 (W2 : Int), .int .u32 (W3 : Int)] w fun e w' => e = .returned (.int .u32 (wd (el T a) (el T b) (el T c) (el T d) : Nat)) ∧ Below w.heap.size w w' := by
  have ha : a < 256 := by omega
  have hb : b < 256 := by omega
  have hc : c < 256 := by omega
  have hd : d < 256 := by omega
  have e0 : (W0 : Int) / 16777216 = (a : Int) := by omega
  have s1 : IntKind.u8.wrap ((W1 : Int) / 65536) = (b : Int) := by rw [IntKind.wrap_u8]; omega
  have s2 : IntKind.u8.wrap ((W2 : Int) / 256) = (c : Int) := by rw [IntKind.wrap_u8]; omega
  have s3 : IntKind.u8.wrap (W3 : Int) = (d : Int) := by rw [IntKind.wrap_u8]; omega
  have m1 : (W1 : Int) / 65536 % 256 = (b : Int) := by omega
  have m2 : (W2 : Int) / 256 % 256 = (c : Int) := by omega
  have m3 : (W3 : Int) % 256 = (d : Int) := by omega
  have c0 := hw a ha
  have c1 := hw b hb
  have c2 := hw c hc
  have c3 := hw d hd
  have t0 := el_lt hT (by decide) a
  have t1 := el_lt hT (by decide) b
  have t2 := el_lt hT (by decide) c
  have t3 := el_lt hT (by decide) d
  have HG := hide (gat_int t0 t1 t2 t3)
  generalize el T a = A at *
  generalize el T b = B at *
  generalize el T c = C at *
  generalize el T d = D at *
  have ai : (a : Int) < 256 := by omega
  have bi : (b : Int) < 256 := by omega
  have ci : (c : Int) < 256 := by omega
  have di : (d : Int) < 256 := by omega
  clear h0 h1 h2 h3 hw
  go_enter Try.func74, Try.ntmps74
  go_wp2
  go_quiet (fail)
  go_wp2
  go_ret
  exact ⟨ret_int HG.out, below_drewN (Below.refl _ _) _⟩
end Go.Proofs.Ytjnlkihhmenfnaa
