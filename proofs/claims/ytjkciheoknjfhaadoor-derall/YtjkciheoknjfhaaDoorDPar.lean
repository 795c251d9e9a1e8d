/- The document's Parse. -/
import Derived.Test.YtjkciheoknjfhaaDoorEPar
namespace Go.Proofs.YtjkciheoknjfhaaDoor
open Go.RowKit Go.Deep
set_option linter.unusedVariables false

set_option maxHeartbeats 2000000 in
theorem rparse_der (FB : Int → List Nat → Bool) (hFB : FBok FB) (v : Value) (l : List Nat) (w : World) (h : Row .u8 256 w v l) (hl : l.length ≤ 60000) :
    Calls Tryd.prog 10 #[v] w fun e w' => ParE (parseD FB l) w e w' := by
  have hu := h.under
  have hin := in_old h
  have h' := h
  have hb0 : Below w.heap.size w (w.alloc (.cells #[.int .i64 0, .slice none 0 0, .slice none 0 0] 26)) := keep_alloc _ _
  have hS0 : (w.alloc (.cells #[.int .i64 0, .slice none 0 0, .slice none 0 0] 26)).heap[w.heap.size]? = some (.cells #[.int .i64 0, .slice none 0 0, .slice none 0 0] 26) := heap_alloc_new _ _
  have hs0 : (w.alloc (.cells #[.int .i64 0, .slice none 0 0, .slice none 0 0] 26)).heap.size = w.heap.size + 1 := World.size_alloc _ _
  have hrd := rread_in FB hFB w.heap.size 32 v l _ (h.below hb0) hin (by omega) (by omega) (by omega)
  have HP : Hid (parseD FB l = allR FB l) := hide (by
    unfold parseD allR
    rw [if_neg (by omega)]
    cases rd FB 32 l <;> rfl)
  rw [HP.out]
  obtain ⟨a, cap, rfl, g1, g2, g3, g4⟩ := h
  generalize hw0 : w.alloc (.cells #[.int .i64 0, .slice none 0 0, .slice none 0 0] 26) = w0 at *
  have hli : ¬ (1048576 : Int) < (l.length : Int) := by omega
  have hln : ¬ 1048576 < l.length := by omega
  go_enter Tryd.func10, Tryd.ntmps10
  go_wp2_with fail
  clear hw0
  refine hrd.mono ?_
  rintro e w1 ⟨⟨er, her, hpos, rfl⟩ | ⟨x, m, d, c0, c1, c2, hok, rfl, hnd⟩, hb1⟩
  · have HR : Hid (allR FB l = .err er) := hide (by unfold allR; rw [her])
    have heri : ((er : Int) != 0) = true := by simp; omega
    have hbx : Below w1.heap.size w1 (w1.alloc (.cells #[.int .i64 0, .slice none 0 0, .slice none 0 0] 26)) := keep_alloc _ _
    have hS1 := (hbx.block _ (by have := hb1.size; omega)).trans ((hb1.block _ (by omega)).trans hS0)
    have hbf := below3 (keep_trans (keep_trans hb0 hb1) hbx) (Nat.le_refl _) (.int .i64 0) (.slice none 0 0) (.slice none 0 0)
    obtain ⟨y0, y1, y2, z0, z1, z2⟩ := cells3 hS1
    obtain ⟨s0, s1, s2, _⟩ := cells3 (set3 hS1 (.int .i64 0) (.slice none 0 0) (.slice none 0 0))
    clear hrd her
    unfold nod0
    go_wp2_with fail
    exact bodyPost_ret (v := .tuple #[nod0, .int .i64 (er : Nat)]) (by simp [results, Tryd.results10, go_sem, nod0, s0, s1, s2]) rfl ⟨.inl ⟨er, HR.out, hpos, rfl⟩, hbf⟩
  · obtain ⟨hm2, hml, _⟩ := rd_reads FB 32 l x m hu (by omega) hok
    obtain ⟨tt, a1, n1, p1, a2, n2, p2, rfl, rfl, rfl⟩ := hnd.forms
    have hbx : Below w1.heap.size w1 (w1.alloc (.cells #[.int .i64 tt, .slice a1 n1 p1, .slice a2 n2 p2] 26)) := keep_alloc _ _
    have hS1 := (hbx.block _ (by have := hb1.size; omega)).trans ((hb1.block _ (by omega)).trans hS0)
    have hX1 : (w1.alloc (.cells #[.int .i64 tt, .slice a1 n1 p1, .slice a2 n2 p2] 26)).heap[w1.heap.size]? = _ := heap_alloc_new _ _
    obtain ⟨y0, y1, y2, z0, z1, z2⟩ := cells3 hS1
    obtain ⟨x0, x1, x2, _⟩ := cells3 hX1
    have hb2 := keep_trans (keep_trans hb0 hb1) hbx
    by_cases hlt : m < l.length
    · have HR : Hid (allR FB l = .err 7) := hide (by unfold allR; rw [hok]; dsimp only; rw [if_pos hlt])
      have hlti : (m : Int) < (l.length : Int) := by omega
      have hbf := below3 hb2 (Nat.le_refl _) (.int .i64 0) (.slice none 0 0) (.slice none 0 0)
      obtain ⟨s0, s1, s2, _⟩ := cells3 (set3 hS1 (.int .i64 0) (.slice none 0 0) (.slice none 0 0))
      clear hrd hok
      go_wp2_with fail
      exact bodyPost_ret (v := .tuple #[nod0, .int .i64 7]) (by simp [results, Tryd.results10, go_sem, nod0, s0, s1, s2]) rfl ⟨.inl ⟨7, HR.out, by decide, rfl⟩, hbf⟩
    · have HR : Hid (allR FB l = .ok x) := hide (by unfold allR; rw [hok]; dsimp only; rw [if_neg hlt])
      have hlti : ¬ (m : Int) < (l.length : Int) := by omega
      have hbf := below3 hb2 (Nat.le_refl _) (.int .i64 tt) (.slice a1 n1 p1) (.slice a2 n2 p2)
      obtain ⟨s0, s1, s2, _⟩ := cells3 (set3 hS1 (.int .i64 tt) (.slice a1 n1 p1) (.slice a2 n2 p2))
      have hnf := NdIn.at _ _ _ _ _ ((hnd.turn (w' := w1.alloc (.cells #[.int .i64 tt, .slice a1 n1 p1, .slice a2 n2 p2] 26)) (T := fun k => k < w.heap.size ∨ w0.heap.size ≤ k) (fun b hs hl => ⟨hbx.block b hl, hs⟩)).turn (w' := ((((w1.alloc (.cells #[.int .i64 tt, .slice a1 n1 p1, .slice a2 n2 p2] 26)).setCell ⟨w.heap.size, 0, none⟩ (.int .i64 tt)).setCell ⟨w.heap.size, 1, none⟩ (.slice a1 n1 p1)).setCell ⟨w.heap.size, 2, none⟩ (.slice a2 n2 p2))) (T := fun _ => True) (fun b hs hl => ⟨other3 (by omega), trivial⟩))
      clear hrd hok
      go_wp2_with fail
      exact bodyPost_ret (v := .tuple #[.agg #[.int .i64 tt, .slice a1 n1 p1, .slice a2 n2 p2], .int .i64 0]) (by simp [results, Tryd.results10, go_sem, s0, s1, s2]) rfl ⟨.inr ⟨x, d, _, _, _, HR.out, rfl, hnf⟩, hbf⟩
end Go.Proofs.YtjkciheoknjfhaaDoor
