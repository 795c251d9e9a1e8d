/- Contract of apostillelaw02.awake. -/
import Derived.Test.YtpmdbbmichncmaaDoorORead
namespace Go.Proofs.YtpmdbbmichncmaaDoor
open Go.RowKit
set_option linter.unusedVariables false

theorem ex_par : parO [128, 1] = none := by
  apply parO_none
  have e : looseS [128, 1] = [0, 1] := by decide
  rw [e]
  have e2 : bytesS [0, 1] = [1] := by
    rw [bytes_some (by decide)]
    show flat [1] = [1]
    rw [flat_cons, flat_nil]
    unfold grp
    rw [show (1 : Nat) / 128 = 0 from rfl, hi_zero]
    rfl
  rw [e2]
  simp
theorem ex_read : readO [49, 46, 52, 48] = none := by
  have e : numsOf (partsS [49, 46, 52, 48]) = some [1, 40] := by decide
  rw [readO_some e]
  rw [if_neg (by intro h; exact absurd h.1 (by decide))]
theorem ex_bytes : bytesS [1, 2, 840] = [42, 134, 72] := by
  rw [bytes_some (by decide)]
  show flat [42, 840] = _
  rw [flat_cons, flat_cons, flat_nil]
  unfold grp
  rw [show (42 : Nat) / 128 = 0 from rfl, show (840 : Nat) / 128 = 6 from rfl, hi_pos (n := 6) (by decide), show (6 : Nat) / 128 = 0 from rfl, hi_zero]
  rfl

theorem lit128 (w : World) : Row .u8 256 (w.alloc (.cells #[.int .u8 128, .int .u8 1] 5)) (.slice (some ⟨w.heap.size, 0, none⟩) 2 2) [128, 1] :=
  lit_row .u8 256 w [128, 1] 5 (dec_under (by decide)) (by decide)
theorem lit840 (w : World) : Row .u32 4294967296 (w.alloc (.cells #[.int .u32 1, .int .u32 2, .int .u32 840] 41)) (.slice (some ⟨w.heap.size, 0, none⟩) 3 3) [1, 2, 840] :=
  lit_row .u32 4294967296 w [1, 2, 840] 41 (dec_under (by decide)) (by decide)
theorem lit42 (w : World) : Row .u8 256 (w.alloc (.cells #[.int .u8 42, .int .u8 134, .int .u8 72] 5)) (.slice (some ⟨w.heap.size, 0, none⟩) 3 3) [42, 134, 72] :=
  lit_row .u8 256 w [42, 134, 72] 5 (dec_under (by decide)) (by decide)

theorem par_128 (v : Value) (w : World) (h : Row .u8 256 w v [128, 1]) : Calls Tryd.prog 8 #[v] w fun e w' => (∃ u, e = .returned (.tuple #[u, .int .i64 5])) ∧ Below w.heap.size w w' := by
  refine (parse_any v [128, 1] w h).mono ?_
  rintro e w1 ⟨⟨u, rfl, _⟩, hb⟩
  rw [ex_par]
  exact ⟨⟨u, rfl⟩, hb⟩
theorem read_140 (w : World) (hV : Vars w) : Calls Tryd.prog 16 #[.string ⟨#[49, 46, 52, 48]⟩] w fun e w' => (∃ u, e = .returned (.tuple #[u, .int .i64 1])) ∧ Below w.heap.size w w' := by
  refine (read_any [49, 46, 52, 48] w (by decide) hV).mono ?_
  rintro e w1 ⟨⟨u, rfl, _⟩, hb⟩
  rw [ex_read]
  exact ⟨⟨u, rfl⟩, hb⟩

set_option maxHeartbeats 1000000 in
theorem oawake_any (w : World) (hV : Vars w) : Calls Tryd.prog 7 #[] w fun e w' => e = .returned (.bool true) ∧ Below w.heap.size w w' := by
  go_enter Tryd.func7, Tryd.ntmps7
  go_wp2_with fail
  refine (par_128 _ _ (lit128 w)).mono ?_
  rintro e w1 ⟨⟨u1, rfl⟩, hb1⟩
  have hb1 := keep_trans (keep_alloc w _) hb1
  go_wp2_with fail
  refine (read_140 _ (hV.below hb1)).mono ?_
  rintro e w2 ⟨⟨u2, rfl⟩, hb2⟩
  have hb2 := keep_trans hb1 hb2
  clear hb1
  go_wp2_with fail
  refine (bytes_any _ [1, 2, 840] _ (lit840 w2)).mono ?_
  rintro e w3 ⟨v3, rfl, ho3, hb3⟩
  rw [ex_bytes] at ho3
  have hb3 := keep_trans (keep_trans hb2 (keep_alloc w2 _)) hb3
  clear hb2
  go_wp2_with fail
  refine (rsame_true _ _ _ _ (ho3.row.below (keep_alloc w3 _)) (lit42 w3)).mono ?_
  rintro e w4 ⟨rfl, hb4⟩
  have hb4 := keep_trans (keep_trans hb3 (keep_alloc w3 _)) hb4
  go_wp2
  go_ret
  exact ⟨rfl, hb4⟩
end Go.Proofs.YtpmdbbmichncmaaDoor
