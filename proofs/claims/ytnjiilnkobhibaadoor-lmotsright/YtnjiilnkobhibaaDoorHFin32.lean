/- Contract of sha.finish at words of 32 bits. -/
import Derived.Test.YtnjiilnkobhibaaDoorTex
import Derived.Test.YtnjiilnkobhibaaDoorJoin
import Derived.Test.YtnjiilnkobhibaaDoorHKit
import Derived.Laws.ShiftsVarLaws
import Derived.BigRegion
namespace Go.Proofs.YtnjiilnkobhibaaDoor
open Go.RowKit
set_option linter.unusedVariables false
set_option linter.unusedSimpArgs false

theorem room_le32 (n : Nat) : 8 ≤ room false n ∧ room false n ≤ 128 := by
  unfold room
  have e : bz false = 64 := rfl
  rw [e]
  split <;> omega
theorem room_mod32 (n : Nat) : room false (n % 64) = room false n := by
  unfold room
  have e : bz false = 64 := rfl
  rw [e, Nat.mod_mod]
theorem endS_is32 (ws l : List Nat) (size n : Nat) : (bytesW false (eat false (eat false ws l) (left false l ++ fill false l.length size))).take n = endS false ws l size n := by
  unfold endS
  rw [eat_parts false ws l (fill false l.length size)]
set_option maxHeartbeats 8000000 in
set_option maxRecDepth 100000 in
theorem finish_any32 (kind : Int) (ws : List Nat) (tv : Value) (tl : List Nat) (size N : Nat) (w : World) (hT : Roots w) (h8 : ws.length = 8) (hu : Under 4294967296 ws) (hRt : Row .u8 256 w tv tl) (tT : Tidy tv) (htl : tl.length ≤ 100000) (hsz : size < 1152921504606846976) (hN : N ≤ 32) :
    Calls Tryd.prog 58 #[.agg (hv kind ws tv size), .int .i64 N] w fun e w' => ∃ v', e = .returned v' ∧ Own 5 .u8 256 w' w.heap.size v' (endS false ws tl size N) ∧ Below w.heap.size w w' := by
  have hb0 := keep_alloc w (.cells (hv kind ws tv size) 81)
  have hT0 := (hT.below hb0).1
  have hH0 := Hb.new w kind ws tv size
  obtain ⟨ta, tc, rfl⟩ := hRt.form
  have HH := hide hH0
  have HB := hide hb0
  clear hH0 hb0
  have huv : hv kind ws (.slice ta tl.length tc) size = #[.int .i64 kind, .int .u64 (el ws 0), .int .u64 (el ws 1), .int .u64 (el ws 2), .int .u64 (el ws 3), .int .u64 (el ws 4), .int .u64 (el ws 5), .int .u64 (el ws 6), .int .u64 (el ws 7), .slice ta tl.length tc, .int .u64 size] := rfl
  rw [huv]
  clear huv
  go_enter Tryd.func58, Tryd.ntmps58
  go_wp2_with (first
    | (refine wpList_load_mid rfl 105 _ (by rfl) 1 0 (by rfl) (vals .u64 cubes) (.array 80 44) hT0 (by kernel_rfl) rfl (by kernel_rfl) ?_)
    | fail)
  refine (resume_is32 ws _ h8 hu).mono ?_
  rintro e w1 ⟨g, rfl, hg, hS1, hb1⟩
  have hW2 : w.heap.size + 1 ≤ g := by have := hg; simp at this; omega
  have hge : w.heap.size ≠ g := by omega
  have hH1 := HH.out.below hb1
  have hbw := keep_trans HB.out hb1
  have hRt1 := hRt.below hbw
  have hAt : Away g (.slice ta tl.length tc) tl := hRt.away (by omega)
  have c9 := hH1.tail
  clear HH HB hb1 hg
  go_wp2_with fail
  refine (take_any32 g ws tl _ w1 hS1 h8 hu hRt1 hAt tT (by omega)).mono ?_
  rintro e w2 ⟨⟨v2, rfl, hR2, hA2, hT2⟩, hS2, hB2⟩
  obtain ⟨a2, c2, rfl⟩ := hR2.form
  have hH2 := hH1.but hB2 hge
  have hbw2 : Below w.heap.size w w2 := hbw.trans (hB2.below (by omega) hbw.size)
  have hll : (left false tl).length = tl.length % 64 := left_length false tl
  have hlt := left_lt false tl
  have hbz : bz false = 64 := rfl
  rw [hbz] at hlt
  have he8 := eat_len (b := false) tl h8
  have heu := eat_under (b := false) tl hu
  obtain ⟨R, hR⟩ : ∃ R, R = 64 - (left false tl).length - 1 := ⟨_, rfl⟩
  have hrm : room false tl.length = if R < 8 then R + 64 else R := by
    unfold room
    rw [hbz, ← hll, ← hR]
  have hRb : R < 64 := by omega
  have HL := hide hll
  generalize hn2 : (left false tl).length = n2 at *
  have HN2 := hide hn2
  have y1 : (64 : Int) - (n2 : Int) = ((R + 1 : Nat) : Int) := by omega
  have y2 : ((R + 1 : Nat) : Int) - 1 = (R : Int) := by omega
  have HR := hide hR
  have HRM := hide hrm
  have hrr := room_le32 tl.length
  clear hR hrm c9 hH1 hbw hRt1 hAt hS1 hB2 hbz hll hn2
  obtain ⟨Q, hQ⟩ : ∃ Q, Q = R + 1 := ⟨_, rfl⟩
  rw [← hQ] at y1 y2
  have hQb : Q ≤ 64 := by omega
  have c10 := hH2.size
  have hm8 : (8 : Int) * (size : Int) = ((8 * size : Nat) : Int) := by omega
  obtain ⟨bs, hbs⟩ : ∃ bs, bs = 8 * size := ⟨_, rfl⟩
  rw [← hbs] at hm8
  have hbw8 : IntKind.u64.wrap (bs : Int) = (bs : Int) := by rw [IntKind.wrap_u64]; omega
  have hbsb : bs < 18446744073709551616 := by omega
  have HBS := hide hbs
  clear hQ hbs
  have key : ∀ (M : Nat) , M = room false tl.length → fill false tl.length size = [128] ++ (leL bs M).reverse := fun M hM => by unfold fill; rw [HBS.out, hM]
  have HKEY := hide key
  clear key
  by_cases hr8 : R < 8
  · skip
    obtain ⟨M, hM⟩ : ∃ M, M = R + 64 := ⟨_, rfl⟩
    have hMi : (R : Int) + 64 = (M : Int) := by omega
    have hMr : M = room false tl.length := by rw [HRM.out, if_pos hr8, hM]
    have hr8i : (R : Int) < 8 := by omega
    have hfl0 := HKEY.out M hMr
    have hMb : 8 ≤ M ∧ M ≤ 128 := by omega
    clear hM hMr
    have hleS : (leS bs (M : Int)).reverse = (leL bs M).reverse := by unfold leS; rw [if_neg (by omega), Int.toNat_natCast]
    have hl3 : (leL bs M).reverse.length = M := by rw [List.length_reverse, leL_length]
    generalize (leL bs M).reverse = L3 at *
    have HFL := hide hfl0
    have HL3 := hide hl3
    clear hfl0 hl3
    have c10' : (w2.alloc (.cells #[.int .u8 128] 5)).cell? ⟨w.heap.size, 10, none⟩ = some (.int .u64 size) := keep_cell c10 (keep_alloc _ _)
    have h128 : Row .u8 256 (w2.alloc (.cells #[.int .u8 128] 5)) (.slice (some ⟨w2.heap.size, 0, none⟩) 1 1) [128] := lit_row .u8 256 w2 [128] 5 (Under.one (by decide)) (by unfold maxLen; decide)
    go_wp2_with (first
      | (go_at_call 68; refine (block_keep32 _ _).mono ?_; rintro e w9 ⟨rfl, rfl⟩)
      | (go_at_call 39; refine (be_any bs (M : Int) _ hbsb (by omega) (by omega)).mono ?_; rintro e w3 ⟨v3, rfl, hO3, hb3⟩; rw [hleS] at hO3; obtain ⟨a3, c3, rfl⟩ := hO3.row.form)
      | (go_at_call 27; refine (join_any _ [left false tl, [128], L3] _ (rows_lit3 (hR2.below (keep_trans (keep_alloc _ _) hb3)) (h128.below hb3) hO3.row hT2 (tidy_at _ _ _) hO3.tidy) (by have := hMb.2; have := HN2.out; have := HL3.out; simp; omega)).mono ?_; rintro e w4 ⟨v4, rfl, hO4, hb4⟩; have hfe : ([left false tl, [128], L3] : List (List Nat)).flatten = left false tl ++ fill false tl.length size := (by rw [HFL.out]; simp); rw [hfe] at hO4; clear hfe)
      | (go_at_call 67; refine (take_any32 g _ _ _ w4 ((hS2.below (keep_trans (keep_alloc w2 _) hb3)).alloc _ |>.below hb4) he8 heu hO4.row (hO4.away (by have := hS2.lt; have := hb3.size; simp at *; omega)) hO4.tidy (by have := hMb.2; have := HN2.out; have := HL3.out; rw [HFL.out]; simp; omega)).mono ?_; rintro e w5 ⟨⟨v5, rfl, hR5, hA5, hT5⟩, hS5, hB5⟩; have hq8 := eat_len (b := false) (left false tl ++ fill false tl.length size) he8; have hqu := eat_under (b := false) (left false tl ++ fill false tl.length size) heu; have hrg := head_range32 hS5)
      | (refine wpList_load_mid rfl 90 _ (by rfl) g 0 (by rfl) _ (.array 8 23) hrg (by kernel_rfl) rfl (by rw [vals_length, hq8]; kernel_rfl) ?_)
      | (go_at_call 69; refine (bytes_any32 _ N w5 hq8 hqu hN).mono ?_; rintro e w6 ⟨v6, rfl, hO6, hb6⟩)
      | fail)
    have hbw4 : Below w.heap.size w w4 := keep_trans hbw2 (keep_trans (keep_trans (keep_alloc w2 _) hb3) (keep_trans (keep_alloc w3 _) hb4))
    have hbw5 := hbw4.trans (hB5.below (by omega) hbw4.size)
    rw [endS_is32] at hO6
    go_ret
    exact ⟨_, rfl, hO6.mono hbw5.size, keep_trans hbw5 hb6⟩
  · skip
    obtain ⟨M, hM⟩ : ∃ M, M = R := ⟨_, rfl⟩
    have hMr : M = room false tl.length := by rw [HRM.out, if_neg hr8, hM]
    have hr8i : ¬ (R : Int) < 8 := by omega
    subst hM
    have hfl0 := HKEY.out M hMr
    have hMb : 8 ≤ M ∧ M ≤ 128 := by omega
    clear hMr
    have hleS : (leS bs (M : Int)).reverse = (leL bs M).reverse := by unfold leS; rw [if_neg (by omega), Int.toNat_natCast]
    have hl3 : (leL bs M).reverse.length = M := by rw [List.length_reverse, leL_length]
    generalize (leL bs M).reverse = L3 at *
    have HFL := hide hfl0
    have HL3 := hide hl3
    clear hfl0 hl3
    have c10' : (w2.alloc (.cells #[.int .u8 128] 5)).cell? ⟨w.heap.size, 10, none⟩ = some (.int .u64 size) := keep_cell c10 (keep_alloc _ _)
    have h128 : Row .u8 256 (w2.alloc (.cells #[.int .u8 128] 5)) (.slice (some ⟨w2.heap.size, 0, none⟩) 1 1) [128] := lit_row .u8 256 w2 [128] 5 (Under.one (by decide)) (by unfold maxLen; decide)
    go_wp2_with (first
      | (go_at_call 68; refine (block_keep32 _ _).mono ?_; rintro e w9 ⟨rfl, rfl⟩)
      | (go_at_call 39; refine (be_any bs (M : Int) _ hbsb (by omega) (by omega)).mono ?_; rintro e w3 ⟨v3, rfl, hO3, hb3⟩; rw [hleS] at hO3; obtain ⟨a3, c3, rfl⟩ := hO3.row.form)
      | (go_at_call 27; refine (join_any _ [left false tl, [128], L3] _ (rows_lit3 (hR2.below (keep_trans (keep_alloc _ _) hb3)) (h128.below hb3) hO3.row hT2 (tidy_at _ _ _) hO3.tidy) (by have := hMb.2; have := HN2.out; have := HL3.out; simp; omega)).mono ?_; rintro e w4 ⟨v4, rfl, hO4, hb4⟩; have hfe : ([left false tl, [128], L3] : List (List Nat)).flatten = left false tl ++ fill false tl.length size := (by rw [HFL.out]; simp); rw [hfe] at hO4; clear hfe)
      | (go_at_call 67; refine (take_any32 g _ _ _ w4 ((hS2.below (keep_trans (keep_alloc w2 _) hb3)).alloc _ |>.below hb4) he8 heu hO4.row (hO4.away (by have := hS2.lt; have := hb3.size; simp at *; omega)) hO4.tidy (by have := hMb.2; have := HN2.out; have := HL3.out; rw [HFL.out]; simp; omega)).mono ?_; rintro e w5 ⟨⟨v5, rfl, hR5, hA5, hT5⟩, hS5, hB5⟩; have hq8 := eat_len (b := false) (left false tl ++ fill false tl.length size) he8; have hqu := eat_under (b := false) (left false tl ++ fill false tl.length size) heu; have hrg := head_range32 hS5)
      | (refine wpList_load_mid rfl 90 _ (by rfl) g 0 (by rfl) _ (.array 8 23) hrg (by kernel_rfl) rfl (by rw [vals_length, hq8]; kernel_rfl) ?_)
      | (go_at_call 69; refine (bytes_any32 _ N w5 hq8 hqu hN).mono ?_; rintro e w6 ⟨v6, rfl, hO6, hb6⟩)
      | fail)
    have hbw4 : Below w.heap.size w w4 := keep_trans hbw2 (keep_trans (keep_trans (keep_alloc w2 _) hb3) (keep_trans (keep_alloc w3 _) hb4))
    have hbw5 := hbw4.trans (hB5.below (by omega) hbw4.size)
    rw [endS_is32] at hO6
    go_ret
    exact ⟨_, rfl, hO6.mono hbw5.size, keep_trans hbw5 hb6⟩
end Go.Proofs.YtnjiilnkobhibaaDoor

/- Contracts of sha.either, turned, shifted, firstBits at words of 64 bits. -/
namespace Go.Proofs.YtnjiilnkobhibaaDoor
open Go.RowKit
set_option linter.unusedVariables false
set_option linter.unusedSimpArgs false

theorem ones64 : bits BinOp.xor .u64 IntKind.u64.max 0 = 18446744073709551616 - 1 := by decide
theorem sgn64 : IntKind.u64.signed = false := rfl

theorem wrapN64 (n : Nat) : IntKind.u64.wrap (n : Int) = ((n % 18446744073709551616 : Nat) : Int) := by rw [IntKind.wrap_u64]; omega
/-- a word turned, in the walk's spelling -/
theorem rot_is64 (x r : Nat) (hx : x < 18446744073709551616) (hr : r < 64) : bits .or .u64 ((x : Int) / 2 ^ r) (IntKind.u64.wrap ((x : Int) * 2 ^ (64 - r))) = ((rot true r x : Nat) : Int) := by
  have e1 : (x : Int) / 2 ^ r = ((x / 2 ^ r : Nat) : Int) := by simp
  have e2 : (IntKind.u64.wrap ((x : Int) * 2 ^ (64 - r))) = ((x * 2 ^ (64 - r) % 18446744073709551616 : Nat) : Int) := by
    rw [IntKind.wrap_u64]; simp
  rw [e1, e2, u64_or_nat _ _ (Nat.lt_of_le_of_lt (Nat.div_le_self _ _) hx) (Nat.mod_lt _ (by decide))]
  rfl
theorem xor_is64 (x y : Nat) (hx : x < 18446744073709551616) (hy : y < 18446744073709551616) : bits .xor .u64 (x : Int) (y : Int) = ((x ^^^ y : Nat) : Int) := u64_xor_nat x y hx hy
theorem turn_is64 (x a b c : Nat) (hx : x < 18446744073709551616) (ha : a < 64) (hb : b < 64) (hc : c < 64) :
    bits .xor .u64 (bits .xor .u64 (bits .or .u64 ((x : Int) / 2 ^ a) (IntKind.u64.wrap ((x : Int) * 2 ^ (64 - a)))) (bits .or .u64 ((x : Int) / 2 ^ b) (IntKind.u64.wrap ((x : Int) * 2 ^ (64 - b))))) (bits .or .u64 ((x : Int) / 2 ^ c) (IntKind.u64.wrap ((x : Int) * 2 ^ (64 - c)))) = ((turn3 true a b c x : Nat) : Int) := by
  have r := fun r => rot_lt (b := true) hx r
  rw [rot_is64 x a hx ha, rot_is64 x b hx hb, rot_is64 x c hx hc, xor_is64 _ _ (r a) (r b), xor_is64 _ _ (xor_lt (b := true) (r a) (r b)) (r c)]
  rfl
theorem shft_is64 (x a b c : Nat) (hx : x < 18446744073709551616) (ha : a < 64) (hb : b < 64) (hc : c < 64) :
    bits .xor .u64 (bits .xor .u64 (bits .or .u64 ((x : Int) / 2 ^ a) (IntKind.u64.wrap ((x : Int) * 2 ^ (64 - a)))) (bits .or .u64 ((x : Int) / 2 ^ b) (IntKind.u64.wrap ((x : Int) * 2 ^ (64 - b))))) ((x : Int) / 2 ^ c) = ((shft3 true a b c x : Nat) : Int) := by
  have r := fun r => rot_lt (b := true) hx r
  have e1 : (x : Int) / 2 ^ c = ((x / 2 ^ c : Nat) : Int) := by simp
  rw [rot_is64 x a hx ha, rot_is64 x b hx hb, e1, xor_is64 _ _ (r a) (r b), xor_is64 _ _ (xor_lt (b := true) (r a) (r b)) (shr_lt (b := true) hx c)]
  rfl

theorem and_is64 (x y : Nat) (hx : x < 18446744073709551616) (hy : y < 18446744073709551616) : bits .and .u64 (x : Int) (y : Int) = ((x &&& y : Nat) : Int) := u64_and_nat x y hx hy
theorem add_is64 (x y : Nat) : (IntKind.u64.wrap ((x : Int) + (y : Int))) = (((x + y) % 18446744073709551616 : Nat) : Int) := by
  rw [IntKind.wrap_u64]
  omega
theorem not_is64 (e : Nat) (he : e < 18446744073709551616) : bits .xor .u64 IntKind.u64.max (e : Int) = ((18446744073709551616 - 1 - e : Nat) : Int) := by
  rw [show IntKind.u64.max = ((18446744073709551616 - 1 : Nat) : Int) from rfl, xor_is64 _ _ (by decide) he, ← ones_xor 64 e he]
theorem chs_is64 (e f g : Nat) (he : e < 18446744073709551616) (hf : f < 18446744073709551616) (hg : g < 18446744073709551616) : bits .xor .u64 (bits .and .u64 (e : Int) (f : Int)) (bits .and .u64 (bits .xor .u64 IntKind.u64.max (e : Int)) (g : Int)) = ((chs true e f g : Nat) : Int) := by
  rw [not_is64 e he, and_is64 e f he hf, and_is64 _ g (by omega) hg, xor_is64 _ _ (and_lt (b := true) he) (and_lt (b := true) (by show 18446744073709551616 - 1 - e < 18446744073709551616; omega))]
  rfl
theorem maj_is64 (x y z : Nat) (hx : x < 18446744073709551616) (hy : y < 18446744073709551616) (hz : z < 18446744073709551616) : bits .xor .u64 (bits .xor .u64 (bits .and .u64 (x : Int) (y : Int)) (bits .and .u64 (x : Int) (z : Int))) (bits .and .u64 (y : Int) (z : Int)) = ((maj x y z : Nat) : Int) := by
  rw [and_is64 x y hx hy, and_is64 x z hx hz, and_is64 y z hy hz, xor_is64 _ _ (and_lt (b := true) hx) (and_lt (b := true) hx), xor_is64 _ _ (xor_lt (b := true) (and_lt (b := true) hx) (and_lt (b := true) hx)) (and_lt (b := true) hy)]
  rfl
theorem rnd064 (s : List Nat) (k w : Nat) : (((((el s 7 + turn3 true 14 18 41 (el s 4)) % 18446744073709551616 + chs true (el s 4) (el s 5) (el s 6)) % 18446744073709551616 + k) % 18446744073709551616 + w) % 18446744073709551616 + (turn3 true 28 34 39 (el s 0) + maj (el s 0) (el s 1) (el s 2)) % 18446744073709551616) % 18446744073709551616 = el (rnd true k w s) 0 := by
  show _ = (tOne true s k w + tTwo true s) % wm true
  unfold tOne tTwo
  simp only [gS0, gS1, wm, cond_true, cond_false]
  omega
theorem rnd464 (s : List Nat) (k w : Nat) : (el s 3 + ((((el s 7 + turn3 true 14 18 41 (el s 4)) % 18446744073709551616 + chs true (el s 4) (el s 5) (el s 6)) % 18446744073709551616 + k) % 18446744073709551616 + w) % 18446744073709551616) % 18446744073709551616 = el (rnd true k w s) 4 := by
  show _ = (el s 3 + tOne true s k w) % wm true
  unfold tOne
  simp only [gS0, gS1, wm, cond_true, cond_false]
  omega

theorem either_int64 (x y : Value) (w : World) :
    Calls Tryd.prog 77 #[x, y] w fun e w' => e = .returned y ∧ w' = w := by
  have h1 := ones64
  have h2 := sgn64
  go_enter Tryd.func77, Tryd.ntmps77
  go_wp2
  go_ret
  exact ⟨rfl, rfl⟩

/-- three turns, as a value -/
def tur64 (a b c : Nat) : Value := .agg #[.int .i64 (a : Int), .int .i64 (b : Int), .int .i64 (c : Int)]

/-- three turns, boxed -/
def Tu64 (w : World) (q a b c : Nat) : Prop := w.heap[q]? = some (.cells #[.int .i64 (a : Int), .int .i64 (b : Int), .int .i64 (c : Int)] 127)
theorem Tu64.new (w : World) (a b c : Nat) : Tu64 (w.alloc (.cells #[.int .i64 (a : Int), .int .i64 (b : Int), .int .i64 (c : Int)] 127)) w.heap.size a b c := heap_alloc_last w _
theorem Tu64.below {w w' : World} {q a b c : Nat} (h : Tu64 w q a b c) (hb : Below w.heap.size w w') : Tu64 w' q a b c := by
  unfold Tu64 at *
  rcases Nat.lt_or_ge q w.heap.size with hlt | hge
  · rw [hb.block q hlt]; exact h
  · rw [Array.getElem?_eq_none hge] at h; cases h
theorem Tu64.but {w w' : World} {q g a b c : Nat} (h : Tu64 w q a b c) (hb : But g w w') (hn : q ≠ g) : Tu64 w' q a b c := by
  unfold Tu64 at *
  rcases Nat.lt_or_ge q w.heap.size with hlt | hge
  · rw [hb.block q hlt hn]; exact h
  · rw [Array.getElem?_eq_none hge] at h; cases h
theorem Tu64.cells {w : World} {q a b c : Nat} (h : Tu64 w q a b c) : w.cell? ⟨q, 0, none⟩ = some (.int .i64 (a : Int)) ∧ w.cell? ⟨q, 1, none⟩ = some (.int .i64 (b : Int)) ∧ w.cell? ⟨q, 2, none⟩ = some (.int .i64 (c : Int)) := by
  unfold Tu64 at h
  refine ⟨?_, ?_, ?_⟩ <;> rw [cell_of_row w q _ _ _ (0, 0) h] <;> rfl

theorem either_tur64 (a b c a' b' c' : Nat) (w : World) :
    Calls Tryd.prog 90 #[tur64 a b c, tur64 a' b' c'] w fun e w' => e = .returned (tur64 a' b' c') ∧ Below w.heap.size w w' := by
  unfold tur64
  have h1 := ones64
  have h2 := sgn64
  go_enter Tryd.func90, Tryd.ntmps90
  go_wp2
  refine bodyPost_ret (v := .agg #[.int .i64 (a' : Int), .int .i64 (b' : Int), .int .i64 (c' : Int)]) (by simp [results, Tryd.results90, go_sem]) rfl ⟨rfl, ?_⟩
  exact (((Below.refl _ _).alloc (Nat.le_refl _) _).alloc (by simp) _).alloc (by simp; omega) _

theorem first64 (n : Nat) (w : World) (hn : n < 18446744073709551616) :
    Calls Tryd.prog 65 #[.int .u64 n] w fun e w' => e = .returned (.int .u64 (hi true n : Nat)) ∧ w' = w := by
  go_enter Tryd.func65, Tryd.ntmps65
  go_wp2_with fail
  refine (either_int64 _ _ _).mono ?_
  rintro e w1 ⟨rfl, rfl⟩
  go_wp2
  go_ret
  exact ⟨ret_int (by simp only [hi, cond_true, cond_false]), rfl⟩

set_option maxHeartbeats 1000000 in
theorem turned64 (x a b c : Nat) (w : World) (hx : x < 18446744073709551616) (ha : a < 64) (hb : b < 64) (hc : c < 64) :
    Calls Tryd.prog 91 #[.int .u64 x, tur64 a b c] w fun e w' => e = .returned (.int .u64 (turn3 true a b c x : Nat)) ∧ Below w.heap.size w w' := by
  unfold tur64
  have m1 : min a 64 = a := by omega
  have m2 : min b 64 = b := by omega
  have m3 : min c 64 = c := by omega
  go_enter Tryd.func91, Tryd.ntmps91
  go_wp2_with fail
  refine (either_int64 _ _ _).mono ?_
  rintro e w1 ⟨rfl, rfl⟩
  go_wp2
  go_quiet (fail)
  go_wp2
  go_ret
  exact ⟨ret_int (turn_is64 x a b c hx ha hb hc), bel_drewN (keep_alloc _ _) _⟩

set_option maxHeartbeats 1000000 in
theorem shifted64 (x a b c : Nat) (w : World) (hx : x < 18446744073709551616) (ha : a < 64) (hb : b < 64) (hc : c < 64) :
    Calls Tryd.prog 92 #[.int .u64 x, tur64 a b c] w fun e w' => e = .returned (.int .u64 (shft3 true a b c x : Nat)) ∧ Below w.heap.size w w' := by
  unfold tur64
  have m1 : min a 64 = a := by omega
  have m2 : min b 64 = b := by omega
  have m3 : min c 64 = c := by omega
  go_enter Tryd.func92, Tryd.ntmps92
  go_wp2_with fail
  refine (either_int64 _ _ _).mono ?_
  rintro e w1 ⟨rfl, rfl⟩
  go_wp2
  go_quiet (fail)
  go_wp2
  go_ret
  exact ⟨ret_int (shft_is64 x a b c hx ha hb hc), bel_drewN (keep_alloc _ _) _⟩
end Go.Proofs.YtnjiilnkobhibaaDoor
