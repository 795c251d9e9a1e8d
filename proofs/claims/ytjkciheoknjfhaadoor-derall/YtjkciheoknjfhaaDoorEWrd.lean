/- Contract of utf8.word. -/
import Derived.Test.YtjkciheoknjfhaaDoorEUtM
import Derived.Lib.EndianBits
import Derived.Laws.BitsAllLaws
import Derived.Deep.Draws
namespace Go.Proofs.YtjkciheoknjfhaaDoor
open Go.RowKit
set_option linter.unusedVariables false

set_option maxHeartbeats 8000000 in
set_option maxRecDepth 100000 in
theorem word_any (v : Value) (l : List Nat) (w : World) (h : Row .u8 256 w v l) (h8 : 8 ≤ l.length) :
    Calls Tryd.prog 70 #[v] w fun e w' => e = .returned (.int .u64 (wd l : Nat)) ∧ ∃ q, w' = w.drewN q := by
  have hu := h.under
  obtain ⟨a, cap, rfl, g1, g2, g3, g4⟩ := h
  unfold maxLen at g2
  obtain ⟨b, off, rfl, hc⟩ := g3 (by omega)
  have c0 : w.cell? ⟨b, off, none⟩ = some (.int .u8 (el l 0)) := hc 0 (by omega)
  have c1 := hc 1 (by omega)
  have c2 := hc 2 (by omega)
  have c3 := hc 3 (by omega)
  have c4 := hc 4 (by omega)
  have c5 := hc 5 (by omega)
  have c6 := hc 6 (by omega)
  have c7 := hc 7 (by omega)
  have l0 := el_lt hu (by decide) 0
  have l1 := el_lt hu (by decide) 1
  have l2 := el_lt hu (by decide) 2
  have l3 := el_lt hu (by decide) 3
  have l4 := el_lt hu (by decide) 4
  have l5 := el_lt hu (by decide) 5
  have l6 := el_lt hu (by decide) 6
  have l7 := el_lt hu (by decide) 7
  have HW : Hid (wd l = el l 0 + el l 1 * 256 + el l 2 * 65536 + el l 3 * 16777216 + el l 4 * 4294967296 + el l 5 * 1099511627776 + el l 6 * 281474976710656 + el l 7 * 72057594037927936) := hide rfl
  generalize el l 0 = x0 at *
  generalize el l 1 = x1 at *
  generalize el l 2 = x2 at *
  generalize el l 3 = x3 at *
  generalize el l 4 = x4 at *
  generalize el l 5 = x5 at *
  generalize el l 6 = x6 at *
  generalize el l 7 = x7 at *
  clear hc g3 hu g4
  generalize l.length = n at *
  have q0 : (0 : Int) < (n : Int) := by omega
  have p0 : 0 < n := by omega
  have q1 : (1 : Int) < (n : Int) := by omega
  have p1 : 1 < n := by omega
  have q2 : (2 : Int) < (n : Int) := by omega
  have p2 : 2 < n := by omega
  have q3 : (3 : Int) < (n : Int) := by omega
  have p3 : 3 < n := by omega
  have q4 : (4 : Int) < (n : Int) := by omega
  have p4 : 4 < n := by omega
  have q5 : (5 : Int) < (n : Int) := by omega
  have p5 : 5 < n := by omega
  have q6 : (6 : Int) < (n : Int) := by omega
  have p6 : 6 < n := by omega
  have q7 : (7 : Int) < (n : Int) := by omega
  have p7 : 7 < n := by omega
  go_enter Tryd.func70, Tryd.ntmps70
  go_wp2
  go_quiet (fail)
  go_wp2
  go_ret
  refine ⟨?_, _, rfl⟩
  simp (disch := omega) only [u64_or8, u64_or16, u64_or24, u64_or32, u64_or40, u64_or48, u64_or56]
  rw [HW.out]
  exact ret_int (by omega)
end Go.Proofs.YtjkciheoknjfhaaDoor
