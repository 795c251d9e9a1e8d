/- der's end, read (what is thrown is caught), Parse. -/
import Derived.Test.YtjkciheoknjfhaaDoorERVl
import Derived.Tactics
import Derived.Tactics2
import Derived.Defers
import Derived.Recover
import Derived.Laws.Pointers
namespace Go.Proofs.YtjkciheoknjfhaaDoor
open Go.RowKit Go.Deep
set_option linter.unusedVariables false

set_option maxHeartbeats 1000000 in
theorem end_any (B0 P d : Nat) (v : Value) (l : List Nat) (w : World) (hr : RB w P v d) (hx : TX B0 w v l) :
    Calls Tryd.prog 30 #[.pointer (some ⟨P, 0, none⟩)] w fun e w' => ((0 < l.length ∧ e = thr 7) ∨ (l.length = 0 ∧ e = .returned (.tuple #[]))) ∧ w' = w := by
  obtain ⟨c0, c1, f0, f1⟩ := cells2 hr
  obtain ⟨⟨a, cap, rfl, g1, g2, g3, g4⟩, _⟩ := hx
  by_cases hl : 0 < l.length
  · go_enter Tryd.func30, Tryd.ntmps30
    go_wp2_with fail
    exact ⟨rfl, .inl ⟨hl, rfl⟩, rfl⟩
  · go_enter Tryd.func30, Tryd.ntmps30
    go_wp2_with fail
    first
      | go_end0
      | skip
    exact ⟨.inr ⟨by omega, rfl⟩, rfl⟩

set_option maxHeartbeats 4000000 in
theorem catch_idle (p q : Addr) (w : World) :
    CallsD Tryd.prog 28 #[.pointer (some p), .pointer (some q)] .returning w fun e u' w' => e = .returned (.tuple #[]) ∧ u' = .returning ∧ w' = w := by
  refine callsD_of_wpS Tryd.func28 rfl fun c₀ cs hu => ?_
  apply wpS_seq
  apply wpS_region
  simp [wpOpsS, go_sem, recoverD, hu, Tryd.ntmps28, Exit.thenS]
  apply wpS_seq
  apply wpS_region
  simp [wpOpsS, go_sem, Exit.thenS]
  refine wpS_cond (t := false) (by simp [Act.eval, Array.replicate]) ?_
  simp only [Bool.false_eq_true, if_false]
  refine wpS_of_wp (wp_skip ?_)
  cases c₀
  simp_all [bodyPostS, results, Tryd.results28]
set_option maxHeartbeats 4000000 in
theorem assert_errno (x : Value) (w : World) : (Instr.typeAssert (.iface 27 x) 20 27 false).run Tryd.prog w = .ok x w := by kernel_rfl
set_option maxHeartbeats 4000000 in
theorem catch_thrown (p q : Nat) (er : Nat) (older : List PanicEntry) (w : World) (n0 n1 n2 e0 : Value) (hn : w.heap[p]? = some (.cells #[n0, n1, n2] 26)) (he : w.heap[q]? = some (.cells #[e0] 27)) (hpq : p ≠ q) :
    CallsD Tryd.prog 28 #[.pointer (some ⟨p, 0, none⟩), .pointer (some ⟨q, 0, none⟩)] (.panicking ({ v := .iface 27 (.int .i64 (er : Nat)), recovered := false } :: older)) w fun e u' w' =>
      e = .returned (.tuple #[]) ∧ u' = .panicking ({ v := .iface 27 (.int .i64 (er : Nat)), recovered := true } :: older) ∧
      w'.heap[p]? = some (.cells #[.int .i64 0, .slice none 0 0, .slice none 0 0] 26) ∧ w'.heap[q]? = some (.cells #[.int .i64 (er : Nat)] 27) ∧ Below (min p q) w w' := by
  refine callsD_of_wpS Tryd.func28 rfl fun c₀ cs hu => ?_
  apply wpS_seq
  apply wpS_region
  simp [wpOpsS, go_sem, recoverD, hu, Tryd.ntmps28, Exit.thenS]
  apply wpS_seq
  apply wpS_region
  simp [wpOpsS, go_sem, Exit.thenS]
  refine wpS_cond (t := true) (by simp [Act.eval, Array.replicate]) ?_
  simp only [if_true]
  refine wpS_of_wp ?_
  obtain ⟨c0, c1, c2, f0, f1, f2⟩ := cells3 hn
  have d0 : w.cell? ⟨q, 0, none⟩ = some e0 := by rw [cell_at' he]; rfl
  have d1 : w.frozen? ⟨q, 0, none⟩ = false := frozen_of_row w _ 0 _ _ he
  simp only [Array.replicate_succ, Array.replicate_zero, List.push_toArray, List.append_toArray, List.nil_append, List.cons_append, List.setIfInBounds_toArray, List.set_cons_zero, List.set_cons_succ]
  generalize hQ : (fun (e : Exit) (a' : Act) (w' : World) => bodyPostS Tryd.prog Tryd.f28 _ _ _ e a' _ w') = QQ
  have hta := assert_errno (.int .i64 (er : Nat))
  go_region
  subst hQ
  have k1 := set3 hn (.int .i64 0) (.slice none 0 0) (.slice none 0 0)
  have k2 : (((w.setCell ⟨p, 0, none⟩ (.int .i64 0)).setCell ⟨p, 1, none⟩ (.slice none 0 0)).setCell ⟨p, 2, none⟩ (.slice none 0 0)).heap[q]? = some (.cells #[e0] 27) := (other3 (fun e => hpq e.symm)).trans he
  have k3 : Below (min p q) w (((w.setCell ⟨p, 0, none⟩ (.int .i64 0)).setCell ⟨p, 1, none⟩ (.slice none 0 0)).setCell ⟨p, 2, none⟩ (.slice none 0 0)) := below3 (Below.refl _ _) (by omega) _ _ _
  generalize (((w.setCell ⟨p, 0, none⟩ (.int .i64 0)).setCell ⟨p, 1, none⟩ (.slice none 0 0)).setCell ⟨p, 2, none⟩ (.slice none 0 0)) = W at *
  have k4 : (W.setCell ⟨q, 0, none⟩ (.int .i64 (er : Nat))).drew.heap[p]? = some (.cells #[.int .i64 0, .slice none 0 0, .slice none 0 0] 26) := (heap_setCell_other _ _ _ _ (by exact hpq)).trans k1
  have k5 : (W.setCell ⟨q, 0, none⟩ (.int .i64 (er : Nat))).drew.heap[q]? = some (.cells #[.int .i64 (er : Nat)] 27) := by
    show (W.setCell ⟨q, 0, none⟩ (.int .i64 (er : Nat))).heap[q]? = _
    rw [heap_setCell_same _ _ _ _ _ _ k2]; rfl
  have k6 : Below (min p q) w (W.setCell ⟨q, 0, none⟩ (.int .i64 (er : Nat))).drew := (k3.setCell (by show min p q ≤ q; omega) _).drew
  simp [bodyPostS, results, Tryd.results28]
  exact ⟨k4, k5, k6⟩
/-- what is told of bytes, in memory: an error beside a node of nothing, or the value -/
def ParE (r : Res Nd) (w : World) (e : Ending) (w' : World) : Prop :=
  ((∃ er, r = .err er ∧ 0 < er ∧ e = .returned (.tuple #[nod0, .int .i64 (er : Nat)])) ∨ (∃ x d c0 c1 c2, r = .ok x ∧ e = .returned (.tuple #[.agg #[c0, c1, c2], .int .i64 0]) ∧ NdAt w' d c0 c1 c2 x)) ∧ Below w.heap.size w w'
/-- the value that bytes are, all of them, however many -/
def allR (FB : Int → List Nat → Bool) (b : List Nat) : Res Nd :=
  match rd FB 32 b with
  | .err e => .err e
  | .ok (x, m) => if m < b.length then .err 7 else .ok x
theorem cell1 {w : World} {q : Nat} {v : Value} {t : TypeId} (h : w.heap[q]? = some (.cells #[v] t)) : w.cell? ⟨q, 0, none⟩ = some v ∧ w.frozen? ⟨q, 0, none⟩ = false :=
  ⟨by rw [cell_at' h]; rfl, frozen_of_row w _ 0 _ _ h⟩

/-- the same, with what blocks the value lies in -/
def ParB (B0 : Nat) (r : Res Nd) (w : World) (e : Ending) (w' : World) : Prop :=
  ((∃ er, r = .err er ∧ 0 < er ∧ e = .returned (.tuple #[nod0, .int .i64 (er : Nat)])) ∨ (∃ x d c0 c1 c2, r = .ok x ∧ e = .returned (.tuple #[.agg #[c0, c1, c2], .int .i64 0]) ∧ NdIn (fun k => k < B0 ∨ w.heap.size ≤ k) w' d c0 c1 c2 x)) ∧ Below w.heap.size w w'
theorem in_old {w : World} {v : Value} {l : List Nat} (h : Row .u8 256 w v l) : ValIn (fun k => k < w.heap.size) v := by
  obtain ⟨a, cap, rfl, g1, g2, g3, g4⟩ := h
  intro b hb he
  obtain ⟨bl, off, rfl, hc⟩ := g3 hb
  have e : bl = b := by simpa [Value.ownBlock] using he
  subst e
  exact World.block_lt_of_cell? w _ (hc 0 hb)

set_option maxHeartbeats 8000000 in
theorem read_any (FB : Int → List Nat → Bool) (hFB : FBok FB) (B0 : Nat) (v : Value) (l : List Nat) (w : World) (h : Row .u8 256 w v l) (htd : Tidy v) (hin : ValIn (fun k => k < B0) v) (hB : B0 ≤ w.heap.size) (hG : GLow B0) (hT : UTabs w) (hl : l.length ≤ 60000) :
    Calls Tryd.prog 21 #[v] w fun e w' => ParB B0 (allR FB l) w e w' := by
  have hmf : ∀ (fn : Fn) (first cap : Array Value) (w : World), (Instr.makeFunc fn first cap).run Tryd.prog w = .ok (.func fn first cap) w := fun _ _ _ _ => rfl
  have hrow := h
  obtain ⟨a, cap, rfl, g1, g2, g3, g4⟩ := h
  obtain ⟨W, hW⟩ : ∃ W, (((w.alloc (.cells #[.int .i64 0, .slice none 0 0, .slice none 0 0] 26)).alloc (.cells #[.int .i64 0] 27)).alloc (.cells #[.slice a l.length cap, .int .i64 1] 55)) = W := ⟨_, rfl⟩
  have hs1 : W.heap.size = w.heap.size + 3 := by rw [← hW, World.size_alloc, World.size_alloc, World.size_alloc]
  have hbW : Below w.heap.size w W := by rw [← hW]; exact ((keep_alloc w _).alloc (by simp) _).alloc (by simp; omega) _
  have hN : W.heap[w.heap.size]? = some (.cells #[.int .i64 0, .slice none 0 0, .slice none 0 0] 26) := by
    rw [← hW]
    exact ((heap_alloc_old _ _ (by simp; omega)).trans (heap_alloc_old _ _ (by simp))).trans (heap_alloc_new _ _)
  have hE : W.heap[w.heap.size + 1]? = some (.cells #[.int .i64 0] 27) := by
    rw [← hW]
    refine (heap_alloc_old _ _ (by simp)).trans ?_
    have := heap_alloc_new (w.alloc (.cells #[.int .i64 0, .slice none 0 0, .slice none 0 0] 26)) (.cells #[.int .i64 0] 27)
    rwa [World.size_alloc] at this
  have hR : RB W (w.heap.size + 1 + 1) (.slice a l.length cap) 1 := by
    unfold RB
    rw [← hW]
    have := heap_alloc_new ((w.alloc (.cells #[.int .i64 0, .slice none 0 0, .slice none 0 0] 26)).alloc (.cells #[.int .i64 0] 27)) (.cells #[.slice a l.length cap, .int .i64 1] 55)
    rwa [World.size_alloc, World.size_alloc] at this
  have hX : TX B0 W (.slice a l.length cap) l := ⟨hrow.below hbW, hin, htd⟩
  have hval := value_any FB hFB 32 B0 (w.heap.size + 1 + 1) 1 _ l W hR hX (by omega) hG (by omega) hl (hT.below hbW)
  go_enter_defers Tryd.func21, Tryd.ntmps21
  go_wp2_with fail
  clear hW g3 hmf
  refine hval.mono ?_
  rintro e w3 ⟨⟨er, her, hpos, rfl⟩ | ⟨x, m, dd, c0, c1, c2, v', hok, rfl, hnd, hr3, hx3⟩, ht3⟩
  · have HR : Hid (allR FB l = .err er) := hide (by unfold allR; rw [her])
    have hN3 := (ht3.old (by omega) (by omega)).trans hN
    have hE3 := (ht3.old (by omega) (by omega)).trans hE
    have hb3 := hbW.trans (ht3.1.mono (by omega))
    clear hval her
    unfold thr
    go_wp2_with fail
    refine leaves_cons (f := 28) (args := #[.pointer (some ⟨w.heap.size, 0, none⟩), .pointer (some ⟨w.heap.size + 1, 0, none⟩)]) (by simp) (by simp [go_sem]) ?_
    refine (catch_thrown w.heap.size (w.heap.size + 1) er [] w3 _ _ _ _ hN3 hE3 (by omega)).mono ?_
    rintro e u' w4 ⟨rfl, rfl, hN4, hE4, hb4⟩
    obtain ⟨y0, y1, y2, _⟩ := cells3 hN4
    obtain ⟨z0, _⟩ := cell1 hE4
    have hbf : Below w.heap.size w w4 := hb3.trans (hb4.mono (by omega))
    have hres : ParB B0 (allR FB l) w (.returned (.tuple #[nod0, .int .i64 (er : Nat)])) w4 := ⟨.inl ⟨er, HR.out, hpos, rfl⟩, hbf⟩
    simp [Leaves, settle, results, Tryd.results21, go_sem, y0, y1, y2, z0]
    exact hres
  · have hrr := rd_reads FB 32 l x m g4 (by omega) hok
    have hml := hrr.2.1
    have hdl : (l.drop m).length = l.length - m := List.length_drop
    have hN3 := (ht3.old (by omega) (by omega)).trans hN
    have hE3 := (ht3.old (by omega) (by omega)).trans hE
    have hb3 := hbW.trans (ht3.1.mono (by omega))
    have hs3 := ht3.size
    obtain ⟨tt, a1, n1, p1, a2, n2, p2, rfl, rfl, rfl⟩ := hnd.forms
    obtain ⟨y0, y1, y2, z0, z1, z2⟩ := cells3 hN3
    have hN4 := set3 hN3 (.int .i64 tt) (.slice a1 n1 p1) (.slice a2 n2 p2)
    have hE4 : (((w3.setCell ⟨w.heap.size, 0, none⟩ (.int .i64 tt)).setCell ⟨w.heap.size, 1, none⟩ (.slice a1 n1 p1)).setCell ⟨w.heap.size, 2, none⟩ (.slice a2 n2 p2)).heap[w.heap.size + 1]? = _ := (other3 (by omega)).trans hE3
    have hr4 : RB (((w3.setCell ⟨w.heap.size, 0, none⟩ (.int .i64 tt)).setCell ⟨w.heap.size, 1, none⟩ (.slice a1 n1 p1)).setCell ⟨w.heap.size, 2, none⟩ (.slice a2 n2 p2)) (w.heap.size + 1 + 1) v' 1 := (other3 (by omega)).trans hr3
    have hx4 : TX B0 (((w3.setCell ⟨w.heap.size, 0, none⟩ (.int .i64 tt)).setCell ⟨w.heap.size, 1, none⟩ (.slice a1 n1 p1)).setCell ⟨w.heap.size, 2, none⟩ (.slice a2 n2 p2)) v' (l.drop m) := ⟨hx3.1.otherIn hx3.2.1 (fun b hb hl => other3 (by omega)), hx3.2⟩
    have hb4 : Below w.heap.size w (((w3.setCell ⟨w.heap.size, 0, none⟩ (.int .i64 tt)).setCell ⟨w.heap.size, 1, none⟩ (.slice a1 n1 p1)).setCell ⟨w.heap.size, 2, none⟩ (.slice a2 n2 p2)) := below3 hb3 (Nat.le_refl _) _ _ _
    have hnd4 : NdIn (fun k => k < B0 ∨ W.heap.size ≤ k) (((w3.setCell ⟨w.heap.size, 0, none⟩ (.int .i64 tt)).setCell ⟨w.heap.size, 1, none⟩ (.slice a1 n1 p1)).setCell ⟨w.heap.size, 2, none⟩ (.slice a2 n2 p2)) dd _ _ _ x := hnd.turn (fun b hs hl => ⟨other3 (by omega), hs⟩)
    have hend := end_any B0 (w.heap.size + 1 + 1) 1 v' (l.drop m) _ hr4 hx4
    obtain ⟨W4, hW4⟩ : ∃ W4, (((w3.setCell ⟨w.heap.size, 0, none⟩ (.int .i64 tt)).setCell ⟨w.heap.size, 1, none⟩ (.slice a1 n1 p1)).setCell ⟨w.heap.size, 2, none⟩ (.slice a2 n2 p2)) = W4 := ⟨_, rfl⟩
    rw [hW4] at hN4 hE4 hr4 hx4 hb4 hnd4 hend
    have HOK := hide hok
    clear hval hok hnd hr3 hx3 hrr ht3 hb3
    go_wp2_with fail
    try rw [hW4]
    clear hW4 y0 y1 y2 z0 z1 z2
    refine hend.mono ?_
    rintro e w5 ⟨⟨hp, rfl⟩ | ⟨hp, rfl⟩, rfl⟩
    · have HR : Hid (allR FB l = .err 7) := hide (by unfold allR; rw [HOK.out]; dsimp only; rw [if_pos (by omega)])
      clear hend
      unfold thr
      go_wp2_with fail
      refine leaves_cons (f := 28) (args := #[.pointer (some ⟨w.heap.size, 0, none⟩), .pointer (some ⟨w.heap.size + 1, 0, none⟩)]) (by simp) (by simp [go_sem]) ?_
      refine (catch_thrown w.heap.size (w.heap.size + 1) 7 [] w5 _ _ _ _ hN4 hE4 (by omega)).mono ?_
      rintro e u' w6 ⟨rfl, rfl, hN6, hE6, hb6⟩
      obtain ⟨y0, y1, y2, _⟩ := cells3 hN6
      obtain ⟨z0, _⟩ := cell1 hE6
      have hbf : Below w.heap.size w w6 := hb4.trans (hb6.mono (by omega))
      have hres : ParB B0 (allR FB l) w (.returned (.tuple #[nod0, .int .i64 7])) w6 := ⟨.inl ⟨7, HR.out, by decide, rfl⟩, hbf⟩
      have z0' : w6.cell? ⟨w.heap.size + 1, 0, none⟩ = some (.int .i64 7) := z0
      simp [Leaves, settle, results, Tryd.results21, go_sem, y0, y1, y2, z0']
      exact hres
    · have HR : Hid (allR FB l = .ok x) := hide (by unfold allR; rw [HOK.out]; dsimp only; rw [if_neg (by omega)])
      obtain ⟨y0, y1, y2, z0, z1, z2⟩ := cells3 hN4
      obtain ⟨k0, k1⟩ := cell1 hE4
      clear hend
      go_wp2_with fail
      have hN5 := set3 hN4 (.int .i64 tt) (.slice a1 n1 p1) (.slice a2 n2 p2)
      have hE5 : (((w5.setCell ⟨w.heap.size, 0, none⟩ (.int .i64 tt)).setCell ⟨w.heap.size, 1, none⟩ (.slice a1 n1 p1)).setCell ⟨w.heap.size, 2, none⟩ (.slice a2 n2 p2)).heap[w.heap.size + 1]? = _ := (other3 (by omega)).trans hE4
      have hb5 : Below w.heap.size w (((w5.setCell ⟨w.heap.size, 0, none⟩ (.int .i64 tt)).setCell ⟨w.heap.size, 1, none⟩ (.slice a1 n1 p1)).setCell ⟨w.heap.size, 2, none⟩ (.slice a2 n2 p2)) := below3 hb4 (Nat.le_refl _) _ _ _
      have hnd5 : NdIn (fun k => k < B0 ∨ W.heap.size ≤ k) (((w5.setCell ⟨w.heap.size, 0, none⟩ (.int .i64 tt)).setCell ⟨w.heap.size, 1, none⟩ (.slice a1 n1 p1)).setCell ⟨w.heap.size, 2, none⟩ (.slice a2 n2 p2)) dd _ _ _ x := hnd4.turn (fun b hs hl => ⟨other3 (by omega), hs⟩)
      generalize (((w5.setCell ⟨w.heap.size, 0, none⟩ (.int .i64 tt)).setCell ⟨w.heap.size, 1, none⟩ (.slice a1 n1 p1)).setCell ⟨w.heap.size, 2, none⟩ (.slice a2 n2 p2)) = w6 at *
      have hN7 : (w6.setCell ⟨w.heap.size + 1, 0, none⟩ (.int .i64 0)).heap[w.heap.size]? = _ := (heap_setCell_other _ _ _ _ (by show w.heap.size ≠ w.heap.size + 1; omega)).trans hN5
      have hE7 : (w6.setCell ⟨w.heap.size + 1, 0, none⟩ (.int .i64 0)).heap[w.heap.size + 1]? = some (.cells #[.int .i64 0] 27) := by rw [heap_setCell_same _ _ _ _ _ _ hE5]; rfl
      have hb7 : Below w.heap.size w (w6.setCell ⟨w.heap.size + 1, 0, none⟩ (.int .i64 0)) := hb5.setCell (by show w.heap.size ≤ w.heap.size + 1; omega) _
      have hnd7 : NdIn (fun k => k < B0 ∨ W.heap.size ≤ k) (w6.setCell ⟨w.heap.size + 1, 0, none⟩ (.int .i64 0)) dd _ _ _ x := hnd5.turn (fun b hs hl => ⟨heap_setCell_other _ _ _ _ (by show b ≠ w.heap.size + 1; omega), hs⟩)
      generalize w6.setCell ⟨w.heap.size + 1, 0, none⟩ (.int .i64 0) = w7 at *
      refine leaves_cons (f := 28) (args := #[.pointer (some ⟨w.heap.size, 0, none⟩), .pointer (some ⟨w.heap.size + 1, 0, none⟩)]) (by simp) (by simp [go_sem]) ?_
      refine (catch_idle ⟨w.heap.size, 0, none⟩ ⟨w.heap.size + 1, 0, none⟩ w7).mono ?_
      rintro e u' w8 ⟨rfl, rfl, rfl⟩
      obtain ⟨s0, s1, s2, _⟩ := cells3 hN7
      obtain ⟨s3, _⟩ := cell1 hE7
      have hres : ParB B0 (allR FB l) w (.returned (.tuple #[.agg #[.int .i64 tt, .slice a1 n1 p1, .slice a2 n2 p2], .int .i64 0])) w8 := ⟨.inr ⟨x, dd, _, _, _, HR.out, rfl, NdIn.mono (fun b hs _ => by omega) _ _ _ _ _ hnd7⟩, hb7⟩
      simp [Leaves, settle, results, Tryd.results21, go_sem, s0, s1, s2, s3]
      exact hres

theorem ParB.parE {B0 : Nat} {r : Res Nd} {w w' : World} {e : Ending} (h : ParB B0 r w e w') : ParE r w e w' := by
  obtain ⟨h1 | ⟨x, d, c0, c1, c2, h1, h2, h3⟩, h4⟩ := h
  · exact ⟨.inl h1, h4⟩
  · exact ⟨.inr ⟨x, d, c0, c1, c2, h1, h2, NdIn.at _ _ _ _ _ h3⟩, h4⟩
set_option maxHeartbeats 2000000 in
theorem parse_der (FB : Int → List Nat → Bool) (hFB : FBok FB) (v : Value) (l : List Nat) (w : World) (h : Row .u8 256 w v l) (htd : Tidy v) (hT : UTabs w) (hl : l.length ≤ 60000) :
    Calls Tryd.prog 9 #[v] w fun e w' => ParE (parseD FB l) w e w' := by
  have hb0 : Below w.heap.size w (w.alloc (.cells #[.int .i64 0, .slice none 0 0, .slice none 0 0] 26)) := keep_alloc _ _
  have hS0 : (w.alloc (.cells #[.int .i64 0, .slice none 0 0, .slice none 0 0] 26)).heap[w.heap.size]? = some (.cells #[.int .i64 0, .slice none 0 0, .slice none 0 0] 26) := heap_alloc_new _ _
  have hs0 : (w.alloc (.cells #[.int .i64 0, .slice none 0 0, .slice none 0 0] 26)).heap.size = w.heap.size + 1 := World.size_alloc _ _
  have hrd := read_any FB hFB w.heap.size v l _ (h.below hb0) htd (in_old h) (by omega) hT.low (hT.below hb0) hl
  have HP : Hid (parseD FB l = allR FB l) := hide (by
    unfold parseD allR
    rw [if_neg (by omega)]
    cases rd FB 32 l <;> rfl)
  obtain ⟨a, cap, rfl, g1, g2, g3, g4⟩ := h
  have hli : ¬ (1048576 : Int) < (l.length : Int) := by omega
  have hln : ¬ 1048576 < l.length := by omega
  rw [HP.out]
  generalize hw0 : w.alloc (.cells #[.int .i64 0, .slice none 0 0, .slice none 0 0] 26) = w0 at *
  go_enter Tryd.func9, Tryd.ntmps9
  go_wp2_with fail
  clear hw0
  refine hrd.mono ?_
  rintro e w1 ⟨⟨er, her, hpos, rfl⟩ | ⟨x, d, c0, c1, c2, hok, rfl, hnd⟩, hb1⟩
  · have hS1 := (hb1.block _ (by omega)).trans hS0
    obtain ⟨y0, y1, y2, z0, z1, z2⟩ := cells3 hS1
    obtain ⟨s0, s1, s2, _⟩ := cells3 (set3 hS1 (.int .i64 0) (.slice none 0 0) (.slice none 0 0))
    have hbf := below3 (keep_trans hb0 hb1) (Nat.le_refl _) (.int .i64 0) (.slice none 0 0) (.slice none 0 0)
    have HER := hide her
    clear hrd her
    unfold nod0
    go_wp2_with fail
    exact bodyPost_ret (v := .tuple #[nod0, .int .i64 (er : Nat)]) (by simp [results, Tryd.results9, go_sem, nod0, s0, s1, s2]) rfl ⟨.inl ⟨er, HER.out, hpos, rfl⟩, hbf⟩
  · have hS1 := (hb1.block _ (by omega)).trans hS0
    obtain ⟨tt, a1, n1, p1, a2, n2, p2, rfl, rfl, rfl⟩ := hnd.forms
    obtain ⟨y0, y1, y2, z0, z1, z2⟩ := cells3 hS1
    obtain ⟨s0, s1, s2, _⟩ := cells3 (set3 hS1 (.int .i64 tt) (.slice a1 n1 p1) (.slice a2 n2 p2))
    have hbf := below3 (keep_trans hb0 hb1) (Nat.le_refl _) (.int .i64 tt) (.slice a1 n1 p1) (.slice a2 n2 p2)
    have hnf := NdIn.at _ _ _ _ _ (hnd.turn (w' := (((w1.setCell ⟨w.heap.size, 0, none⟩ (.int .i64 tt)).setCell ⟨w.heap.size, 1, none⟩ (.slice a1 n1 p1)).setCell ⟨w.heap.size, 2, none⟩ (.slice a2 n2 p2))) (T := fun _ => True) (fun b hs hl => ⟨other3 (by omega), trivial⟩))
    have HOK := hide hok
    clear hrd hok
    go_wp2_with fail
    exact bodyPost_ret (v := .tuple #[.agg #[.int .i64 tt, .slice a1 n1 p1, .slice a2 n2 p2], .int .i64 0]) (by simp [results, Tryd.results9, go_sem, s0, s1, s2]) rfl ⟨.inr ⟨x, d, _, _, _, HOK.out, rfl, hnf⟩, hbf⟩
end Go.Proofs.YtjkciheoknjfhaaDoor
