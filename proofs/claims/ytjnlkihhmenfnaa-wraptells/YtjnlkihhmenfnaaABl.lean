/- The document's Sized, Block, Back. -/
import Derived.Test.YtjnlkihhmenfnaaAKy
import Derived.Test.YtjnlkihhmenfnaaABk
import Derived.Test.YtjnlkihhmenfnaaJTh
namespace Go.Proofs.Ytjnlkihhmenfnaa
open Go.RowKit
set_option linter.unusedVariables false
set_option linter.unusedSimpArgs false

/-- may a key have so many bytes? -/
def SzK (key : List Nat) : Prop := key.length = 16 ∨ key.length = 24 ∨ key.length = 32
/-- a block behind the cipher, and back -/
def blkA (key b : List Nat) : List Nat := thN (key.length / 4 + 6) (keysL key) (key.length / 4 + 6) b
def bakA (key b : List Nat) : List Nat := bkN (key.length / 4 + 6) (keysL key) (key.length / 4 + 6) b
theorem blkA_b {key b : List Nat} (hk : Under 256 key) (hb : B16 b) : B16 (blkA key b) := thN_b (keysL_under hk) hb _
theorem bakA_b {key b : List Nat} (hk : Under 256 key) (hb : B16 b) : B16 (bakA key b) := bkN_b (keysL_under hk) _ hb
theorem bak_blk {key b : List Nat} (hk : Under 256 key) (hb : B16 b) : bakA key (blkA key b) = b := bk_th (keysL_under hk) hb _
theorem blk_bak {key b : List Nat} (hk : Under 256 key) (hb : B16 b) : blkA key (bakA key b) = b := th_bk (keysL_under hk) _ hb

set_option maxHeartbeats 2000000 in
set_option maxRecDepth 100000 in
theorem rsz_any (key : List Nat) (kv : Value) (w : World) (rk : Row .u8 256 w kv key) :
    Calls Try.prog 18 #[kv] w fun e w' => e = .returned (.bool (decide (key.length = 16 ∨ key.length = 24 ∨ key.length = 32))) ∧ w' = w := by
  obtain ⟨ka, kc, rfl, lc1, lc2, _⟩ := rk.opens rfl
  generalize key.length = L at *
  by_cases h16 : L = 16
  · subst h16
    go_enter Try.func18, Try.ntmps18
    go_wp2
    go_ret
    exact ⟨by simp, rfl⟩
  · by_cases h24 : L = 24
    · subst h24
      go_enter Try.func18, Try.ntmps18
      go_wp2
      go_ret
      exact ⟨by simp, rfl⟩
    · have i16 : ¬ ((L : Int) = 16) := by omega
      have i24 : ¬ ((L : Int) = 24) := by omega
      by_cases h32 : L = 32
      · subst h32
        go_enter Try.func18, Try.ntmps18
        go_wp2
        go_ret
        exact ⟨by simp, rfl⟩
      · have i32 : ¬ ((L : Int) = 32) := by omega
        go_enter Try.func18, Try.ntmps18
        go_wp2
        go_ret
        exact ⟨by simp [h16, h24, h32]; omega, rfl⟩
set_option maxHeartbeats 2000000 in
set_option maxRecDepth 100000 in
theorem rblk_key (key b : List Nat) (kv bv : Value) (w : World) (rk : Row .u8 256 w kv key) (hk : ¬ SzK key) :
    Calls Try.prog 19 #[kv, bv] w fun e w' => e = .returned (.tuple #[.slice none 0 0, .int .i64 10]) ∧ Below w.heap.size w w' := by
  have hz : decide (key.length = 16 ∨ key.length = 24 ∨ key.length = 32) = false := decide_eq_false hk
  have hsz := rsz_any key kv w rk
  rw [hz] at hsz
  go_enter Try.func19, Try.ntmps19
  go_wp2_with (first | (go_at_call 18; refine hsz.mono ?_; rintro e w1 ⟨rfl, rfl⟩) | fail)
  go_ret2
  exact ⟨rfl, Below.refl _ _⟩
set_option maxHeartbeats 2000000 in
set_option maxRecDepth 100000 in
theorem rblk_size (key b : List Nat) (kv bv : Value) (w : World) (rk : Row .u8 256 w kv key) (rb : Row .u8 256 w bv b) (hk : SzK key) (hb : b.length ≠ 16) :
    Calls Try.prog 19 #[kv, bv] w fun e w' => e = .returned (.tuple #[.slice none 0 0, .int .i64 14]) ∧ Below w.heap.size w w' := by
  have hz : decide (key.length = 16 ∨ key.length = 24 ∨ key.length = 32) = true := decide_eq_true hk
  have hsz := rsz_any key kv w rk
  rw [hz] at hsz
  obtain ⟨ba, bc, rfl, l1, l2, _⟩ := rb.opens rfl
  have hbi : ¬ ((b.length : Int) = 16) := by omega
  go_enter Try.func19, Try.ntmps19
  go_wp2_with (first | (go_at_call 18; refine hsz.mono ?_; rintro e w1 ⟨rfl, rfl⟩) | fail)
  go_ret2
  exact ⟨rfl, Below.refl _ _⟩
set_option maxHeartbeats 2000000 in
set_option maxRecDepth 100000 in
theorem rbak_key (key b : List Nat) (kv bv : Value) (w : World) (rk : Row .u8 256 w kv key) (hk : ¬ SzK key) :
    Calls Try.prog 26 #[kv, bv] w fun e w' => e = .returned (.tuple #[.slice none 0 0, .int .i64 10]) ∧ Below w.heap.size w w' := by
  have hz : decide (key.length = 16 ∨ key.length = 24 ∨ key.length = 32) = false := decide_eq_false hk
  have hsz := rsz_any key kv w rk
  rw [hz] at hsz
  go_enter Try.func26, Try.ntmps26
  go_wp2_with (first | (go_at_call 18; refine hsz.mono ?_; rintro e w1 ⟨rfl, rfl⟩) | fail)
  go_ret2
  exact ⟨rfl, Below.refl _ _⟩
set_option maxHeartbeats 2000000 in
set_option maxRecDepth 100000 in
theorem rbak_size (key b : List Nat) (kv bv : Value) (w : World) (rk : Row .u8 256 w kv key) (rb : Row .u8 256 w bv b) (hk : SzK key) (hb : b.length ≠ 16) :
    Calls Try.prog 26 #[kv, bv] w fun e w' => e = .returned (.tuple #[.slice none 0 0, .int .i64 14]) ∧ Below w.heap.size w w' := by
  have hz : decide (key.length = 16 ∨ key.length = 24 ∨ key.length = 32) = true := decide_eq_true hk
  have hsz := rsz_any key kv w rk
  rw [hz] at hsz
  obtain ⟨ba, bc, rfl, l1, l2, _⟩ := rb.opens rfl
  have hbi : ¬ ((b.length : Int) = 16) := by omega
  go_enter Try.func26, Try.ntmps26
  go_wp2_with (first | (go_at_call 18; refine hsz.mono ?_; rintro e w1 ⟨rfl, rfl⟩) | fail)
  go_ret2
  exact ⟨rfl, Below.refl _ _⟩
end Go.Proofs.Ytjnlkihhmenfnaa

/- The document's Block, Back, where they answer. -/
namespace Go.Proofs.Ytjnlkihhmenfnaa
open Go.RowKit
set_option linter.unusedVariables false
set_option linter.unusedSimpArgs false

theorem range_belowA {w w' : World} {b o : Nat} {cs : List Value} (h : w.rangeAt b o cs) (hb : Below w.heap.size w w') : w'.rangeAt b o cs := fun j v hv => keep_cell (h j v hv) hb
theorem SzK.words {key : List Nat} (h : SzK key) : ∃ k, (k = 4 ∨ k = 6 ∨ k = 8) ∧ key.length = 4 * k ∧ key.length / 4 = k := by
  rcases h with h | h | h
  · exact ⟨4, .inl rfl, h, by rw [h]⟩
  · exact ⟨6, .inr (.inl rfl), h, by rw [h]⟩
  · exact ⟨8, .inr (.inr rfl), h, by rw [h]⟩
def blolt : List Lt := [(0, some 18, [0]), (0, some 19, [6]), (3, some 20, [18, 19]), (0, some 21, [1]), (0, some 22, [6]), (28, some 23, [20, 21, 22]), (63, some 4, [23]), (127, some 5, [])]
theorem bloreg : Reg (opsA (cLA (cRA (cRA (cRA (cRA (Try.f19.body.getD .skip))))))) blolt := ⟨by kernel_rfl, by kernel_rfl⟩
theorem blois : (cLA (cRA (cRA (cRA (cRA (Try.f19.body.getD .skip)))))) = .region 6 (opsA (cLA (cRA (cRA (cRA (cRA (Try.f19.body.getD .skip))))))) true := by kernel_rfl
section
variable {Q : Exit → Act → World → Prop}
set_option maxHeartbeats 2000000 in
set_option maxRecDepth 100000 in
theorem blo_6 {g g2 : Nat} {key M : List Nat} {kv bv : Value} {a : Act} {x : World} {R : World → Value → Prop}
    (hky : ∀ y, Below x.heap.size x y → Calls Try.prog 43 #[kv, .agg (arr .u8 boxT)] y fun e y' => ∃ v, e = .returned v ∧ R y' v ∧ Below y.heap.size y y')
    (hth : ∀ y v, R y v → Below x.heap.size x y → Calls Try.prog 42 #[v, bv, .agg (arr .u8 boxT)] y fun e y' => ∃ u, e = .returned u ∧ Own 5 .u8 256 y' y.heap.size u M ∧ Below y.heap.size y y')
    (hQ : ∀ (a' : Act) (y : World) (v : Value), Fz 24 a' → a'.eval (.tmp 4) = v → a'.eval (.tmp 5) = .int .i64 0 → Own 5 .u8 256 y x.heap.size v M → Below x.heap.size x y → Q .normal a' y)
    (fz : Fz 24 a) (t0 : a.eval (.tmp 0) = kv) (t1 : a.eval (.tmp 1) = bv) (t6 : a.eval (.tmp 6) = .pointer (some ⟨g, 0, none⟩)) (t7 : a.eval (.tmp 7) = .pointer (some ⟨g2, 0, none⟩)) (hA : Lies .u8 66 x g boxT) (hB : Lies .u8 66 x g2 unT) : Code.wp Try.prog (cLA (cRA (cRA (cRA (cRA (Try.f19.body.getD .skip)))))) Q a x := by
  rw [blois]
  have F : Fr 24 18 23 4 a a := ⟨fz, fun _ _ _ => rfl⟩
  have s1 : (vals .u8 boxT).length = 256 := by rw [vals_length, boxT_len]
  have s2 : (vals .u8 unT).length = 256 := by rw [vals_length, unT_len]
  have hbd : Below x.heap.size x x.drew := (Below.refl _ _).drew
  have hS : Lies .u8 66 x.drew g boxT ∧ Lies .u8 66 x.drew g2 unT := ⟨hA.below hbd, hB.below hbd⟩
  refine at_begin (n := 8) (fun y => Lies .u8 66 y g boxT ∧ Lies .u8 66 y g2 unT) (by kernel_rfl) (by kernel_rfl) ?_
  refine at_take (i := 0) (m' := 1) bloreg rfl (by decide) rfl (y_move rfl rfl t0) hS ?_
  refine F.step (kk := 18) rfl (by decide) (by decide) ?_
  intro a1 F1 v18 e1
  refine at_take (i := 1) (m' := 3) bloreg rfl (by decide) rfl (y_load_row (cs := vals .u8 boxT) rfl rfl ((F1.keep 6 (by decide) (by decide)).trans t6) Try.underlying66 rfl (by rw [s1]; kernel_rfl) (fun _ h => lies_rangeA h.1)) hS ?_
  refine F1.step (kk := 19) rfl (by decide) (by decide) ?_
  intro a2 F2 v19 e2
  replace v18 := (e2 18 (by decide)).trans v18
  replace v19 : a2.eval (.tmp 19) = .agg (arr .u8 boxT) := v19
  refine at_take (i := 3) (m' := 11) bloreg rfl (by decide) rfl (y_move rfl rfl ((F2.keep 1 (by decide) (by decide)).trans t1)) hS ?_
  refine F2.step (kk := 21) rfl (by decide) (by decide) ?_
  intro a3 F3 v21 e3
  replace v18 := (e3 18 (by decide)).trans v18
  replace v19 := (e3 19 (by decide)).trans v19
  refine at_take (i := 4) (m' := 27) bloreg rfl (by decide) rfl (y_load_row (cs := vals .u8 boxT) rfl rfl ((F3.keep 6 (by decide) (by decide)).trans t6) Try.underlying66 rfl (by rw [s1]; kernel_rfl) (fun _ h => lies_rangeA h.1)) hS ?_
  refine F3.step (kk := 22) rfl (by decide) (by decide) ?_
  intro a4 F4 v22 e4
  replace v18 := (e4 18 (by decide)).trans v18
  replace v19 := (e4 19 (by decide)).trans v19
  replace v21 := (e4 21 (by decide)).trans v21
  replace v22 : a4.eval (.tmp 22) = .agg (arr .u8 boxT) := v22
  refine at_one (i := 2) (m' := 31) bloreg (by decide) rfl ?_
  refine p_call (args := #[kv, .agg (arr .u8 boxT)]) rfl rfl rfl (by simp only [List.map_toArray, List.map_cons, List.map_nil, v18, v19]) Try.call43 ((hky _ hbd).mono ?_)
  rintro e x1 ⟨v1, rfl, o1, hb1⟩
  have hS1 := And.intro (hS.1.below hb1) (hS.2.below hb1)
  have hbx1 := keep_trans hbd hb1
  refine ⟨_, rfl, hS1, ?_⟩
  refine F4.step (kk := 20) rfl (by decide) (by decide) ?_
  intro a5 F5 v20 e5
  replace v21 := (e5 21 (by decide)).trans v21
  replace v22 := (e5 22 (by decide)).trans v22
  refine at_one (i := 5) (m' := 63) bloreg (by decide) rfl ?_
  refine p_call (args := #[v1, bv, .agg (arr .u8 boxT)]) rfl rfl rfl (by simp only [List.map_toArray, List.map_cons, List.map_nil, v20, v21, v22]) Try.call42 ((hth _ v1 o1 hbx1).mono ?_)
  rintro e x2 ⟨v2, rfl, o2, hb2⟩
  have hS2 := And.intro (hS1.1.below hb2) (hS1.2.below hb2)
  refine ⟨_, rfl, hS2, ?_⟩
  refine F5.step (kk := 23) rfl (by decide) (by decide) ?_
  intro a6 F6 v23 e6
  refine at_take (i := 6) (m' := 127) bloreg rfl (by decide) rfl (y_assignA rfl rfl v23) hS2 ?_
  refine F6.step (kk := 4) rfl (by decide) (by decide) ?_
  intro a7 F7 v4 e7
  refine at_take (i := 7) (m' := 255) bloreg rfl (by decide) rfl (y_assignA (v := .int .i64 0) rfl rfl rfl) hS2 ?_
  exact at_done bloreg (by decide) (hQ _ _ _ (F7.fz.put _ _) ((put_else (by decide)).trans v4) (put_same (by rw [F7.fz.1]; decide)) (o2.mono hbx1.size) (keep_trans hbx1 hb2))
end
def baolt : List Lt := [(0, some 18, [0]), (0, some 19, [6]), (3, some 20, [18, 19]), (0, some 21, [1]), (0, some 22, [7]), (28, some 23, [20, 21, 22]), (63, some 4, [23]), (127, some 5, [])]
theorem baoreg : Reg (opsA (cLA (cRA (cRA (cRA (cRA (Try.f26.body.getD .skip))))))) baolt := ⟨by kernel_rfl, by kernel_rfl⟩
theorem baois : (cLA (cRA (cRA (cRA (cRA (Try.f26.body.getD .skip)))))) = .region 6 (opsA (cLA (cRA (cRA (cRA (cRA (Try.f26.body.getD .skip))))))) true := by kernel_rfl
section
variable {Q : Exit → Act → World → Prop}
set_option maxHeartbeats 2000000 in
set_option maxRecDepth 100000 in
theorem bao_6 {g g2 : Nat} {key M : List Nat} {kv bv : Value} {a : Act} {x : World} {R : World → Value → Prop}
    (hky : ∀ y, Below x.heap.size x y → Calls Try.prog 43 #[kv, .agg (arr .u8 boxT)] y fun e y' => ∃ v, e = .returned v ∧ R y' v ∧ Below y.heap.size y y')
    (hth : ∀ y v, R y v → Below x.heap.size x y → Calls Try.prog 47 #[v, bv, .agg (arr .u8 unT)] y fun e y' => ∃ u, e = .returned u ∧ Own 5 .u8 256 y' y.heap.size u M ∧ Below y.heap.size y y')
    (hQ : ∀ (a' : Act) (y : World) (v : Value), Fz 24 a' → a'.eval (.tmp 4) = v → a'.eval (.tmp 5) = .int .i64 0 → Own 5 .u8 256 y x.heap.size v M → Below x.heap.size x y → Q .normal a' y)
    (fz : Fz 24 a) (t0 : a.eval (.tmp 0) = kv) (t1 : a.eval (.tmp 1) = bv) (t6 : a.eval (.tmp 6) = .pointer (some ⟨g, 0, none⟩)) (t7 : a.eval (.tmp 7) = .pointer (some ⟨g2, 0, none⟩)) (hA : Lies .u8 66 x g boxT) (hB : Lies .u8 66 x g2 unT) : Code.wp Try.prog (cLA (cRA (cRA (cRA (cRA (Try.f26.body.getD .skip)))))) Q a x := by
  rw [baois]
  have F : Fr 24 18 23 4 a a := ⟨fz, fun _ _ _ => rfl⟩
  have s1 : (vals .u8 boxT).length = 256 := by rw [vals_length, boxT_len]
  have s2 : (vals .u8 unT).length = 256 := by rw [vals_length, unT_len]
  have hbd : Below x.heap.size x x.drew := (Below.refl _ _).drew
  have hS : Lies .u8 66 x.drew g boxT ∧ Lies .u8 66 x.drew g2 unT := ⟨hA.below hbd, hB.below hbd⟩
  refine at_begin (n := 8) (fun y => Lies .u8 66 y g boxT ∧ Lies .u8 66 y g2 unT) (by kernel_rfl) (by kernel_rfl) ?_
  refine at_take (i := 0) (m' := 1) baoreg rfl (by decide) rfl (y_move rfl rfl t0) hS ?_
  refine F.step (kk := 18) rfl (by decide) (by decide) ?_
  intro a1 F1 v18 e1
  refine at_take (i := 1) (m' := 3) baoreg rfl (by decide) rfl (y_load_row (cs := vals .u8 boxT) rfl rfl ((F1.keep 6 (by decide) (by decide)).trans t6) Try.underlying66 rfl (by rw [s1]; kernel_rfl) (fun _ h => lies_rangeA h.1)) hS ?_
  refine F1.step (kk := 19) rfl (by decide) (by decide) ?_
  intro a2 F2 v19 e2
  replace v18 := (e2 18 (by decide)).trans v18
  replace v19 : a2.eval (.tmp 19) = .agg (arr .u8 boxT) := v19
  refine at_take (i := 3) (m' := 11) baoreg rfl (by decide) rfl (y_move rfl rfl ((F2.keep 1 (by decide) (by decide)).trans t1)) hS ?_
  refine F2.step (kk := 21) rfl (by decide) (by decide) ?_
  intro a3 F3 v21 e3
  replace v18 := (e3 18 (by decide)).trans v18
  replace v19 := (e3 19 (by decide)).trans v19
  refine at_take (i := 4) (m' := 27) baoreg rfl (by decide) rfl (y_load_row (cs := vals .u8 unT) rfl rfl ((F3.keep 7 (by decide) (by decide)).trans t7) Try.underlying66 rfl (by rw [s2]; kernel_rfl) (fun _ h => lies_rangeA h.2)) hS ?_
  refine F3.step (kk := 22) rfl (by decide) (by decide) ?_
  intro a4 F4 v22 e4
  replace v18 := (e4 18 (by decide)).trans v18
  replace v19 := (e4 19 (by decide)).trans v19
  replace v21 := (e4 21 (by decide)).trans v21
  replace v22 : a4.eval (.tmp 22) = .agg (arr .u8 unT) := v22
  refine at_one (i := 2) (m' := 31) baoreg (by decide) rfl ?_
  refine p_call (args := #[kv, .agg (arr .u8 boxT)]) rfl rfl rfl (by simp only [List.map_toArray, List.map_cons, List.map_nil, v18, v19]) Try.call43 ((hky _ hbd).mono ?_)
  rintro e x1 ⟨v1, rfl, o1, hb1⟩
  have hS1 := And.intro (hS.1.below hb1) (hS.2.below hb1)
  have hbx1 := keep_trans hbd hb1
  refine ⟨_, rfl, hS1, ?_⟩
  refine F4.step (kk := 20) rfl (by decide) (by decide) ?_
  intro a5 F5 v20 e5
  replace v21 := (e5 21 (by decide)).trans v21
  replace v22 := (e5 22 (by decide)).trans v22
  refine at_one (i := 5) (m' := 63) baoreg (by decide) rfl ?_
  refine p_call (args := #[v1, bv, .agg (arr .u8 unT)]) rfl rfl rfl (by simp only [List.map_toArray, List.map_cons, List.map_nil, v20, v21, v22]) Try.call47 ((hth _ v1 o1 hbx1).mono ?_)
  rintro e x2 ⟨v2, rfl, o2, hb2⟩
  have hS2 := And.intro (hS1.1.below hb2) (hS1.2.below hb2)
  refine ⟨_, rfl, hS2, ?_⟩
  refine F5.step (kk := 23) rfl (by decide) (by decide) ?_
  intro a6 F6 v23 e6
  refine at_take (i := 6) (m' := 127) baoreg rfl (by decide) rfl (y_assignA rfl rfl v23) hS2 ?_
  refine F6.step (kk := 4) rfl (by decide) (by decide) ?_
  intro a7 F7 v4 e7
  refine at_take (i := 7) (m' := 255) baoreg rfl (by decide) rfl (y_assignA (v := .int .i64 0) rfl rfl rfl) hS2 ?_
  exact at_done baoreg (by decide) (hQ _ _ _ (F7.fz.put _ _) ((put_else (by decide)).trans v4) (put_same (by rw [F7.fz.1]; decide)) (o2.mono hbx1.size) (keep_trans hbx1 hb2))
end
set_option maxHeartbeats 8000000 in
set_option maxRecDepth 100000 in
theorem rblk_ok (key b : List Nat) (kv bv : Value) (w : World) (rk : Row .u8 256 w kv key) (rb : Row .u8 256 w bv b) (hk : SzK key) (hb : b.length = 16) :
    Calls Try.prog 19 #[kv, bv] w fun e w' => ∃ v, e = .returned (.tuple #[v, .int .i64 0]) ∧ Row .u8 256 w' v (blkA key b) ∧ New w.heap.size v ∧ Below w.heap.size w w' := by
  have hz := zero256
  have hzd : decide (key.length = 16 ∨ key.length = 24 ∨ key.length = 32) = true := decide_eq_true hk
  have hsz := rsz_any key kv w rk
  rw [hzd] at hsz
  have hbx := rboxes_any w
  obtain ⟨k, hk4, hl, hd4⟩ := hk.words
  have hbB : B16 b := ⟨hb, rb.under⟩
  obtain ⟨ba, bc, rfl, l1, l2, _⟩ := rb.opens hb
  obtain ⟨ka, kc, rfl, l3, l4, _⟩ := rk.opens rfl
  have hpl : blkA key b = thN (k + 6) (keysL key) (k + 6) b := by unfold blkA; rw [hd4]
  have hky := fun y (r : Row .u8 256 y (.slice ka key.length kc) key) => rky_any k key _ y hk4 hl r
  have hth := fun y wv (rw : Row .u8 256 y wv (keysL key)) (rb2 : Row .u8 256 y (.slice ba 16 bc) b) => rth_any (k + 6) (keysL key) b wv (.slice ba 16 bc) y (by omega) (by omega) (by rw [keysL_len hl]) hbB rw rb2
  rw [← hpl] at hth
  obtain ⟨BL, hBL⟩ : ∃ l, l = vals .u8 boxT := ⟨_, rfl⟩
  obtain ⟨UL, hUL⟩ : ∃ l, l = vals .u8 unT := ⟨_, rfl⟩
  have e1 : arr .u8 boxT = BL.toArray := by rw [hBL]; rfl
  have e2 : arr .u8 unT = UL.toArray := by rw [hUL]; rfl
  have s1 : (Try.prog.info? 66).map (·.size) = some BL.length := by rw [hBL, vals_length, boxT_len]; kernel_rfl
  have s2 : (Try.prog.info? 66).map (·.size) = some UL.length := by rw [hUL, vals_length, unT_len]; kernel_rfl
  have q1 : BL.length = 256 := by rw [hBL, vals_length, boxT_len]
  have q2 : UL.length = 256 := by rw [hUL, vals_length, unT_len]
  have a1 : (BL.toArray).all (·.oneCell') = true := by rw [← e1]; exact arr_one _ _
  have a2 : (UL.toArray).all (·.oneCell') = true := by rw [← e2]; exact arr_one _ _
  have hu : Try.prog.underlying 66 = some (.array 256 5) := Try.underlying66
  rw [e1, e2] at hbx
  have HE := hide (And.intro hBL hUL)
  clear hBL hUL e1 e2 hpl hd4 hzd hl hk4 hk hb
  have HBB := hide hbB
  clear hbB
  generalize hM : blkA key b = M at *
  have HM := hide hM
  clear hM
  go_enter Try.func19, Try.ntmps19
  go_wp2_with (first
    | (go_at_call 18; refine hsz.mono ?_; rintro e yy ⟨rfl, hy⟩; obtain rfl := hy.symm)
    | (go_at_call 41; refine hbx.mono ?_; rintro e w1 ⟨rfl, hb1⟩; have L0 := (Lies.new .u8 66 w1 (zA 256)).alloc (.cells (arr .u8 (zA 256)) 66); have L1 := Lies.new .u8 66 (w1.alloc (.cells (arr .u8 (zA 256)) 66)) (zA 256); rw [World.size_alloc] at L1; have L2 : Lies .u8 66 (((w1.alloc (.cells (arr .u8 (zA 256)) 66)).alloc (.cells (arr .u8 (zA 256)) 66)).setRow w1.heap.size BL.toArray) (w1.heap.size + 1) (zA 256) := L1.but ((But.refl _ _).setRow _) (by omega))
    | (refine wpList_store_row rfl 66 _ _ (by rfl) w1.heap.size BL.toArray (by rfl) (by rfl) 66 _ L0 (by rw [List.size_toArray]; exact s1) (by rw [arr_size, zA_len, List.size_toArray, q1]) a1 ?_)
    | (refine wpList_store_row rfl 66 _ _ (by rfl) (w1.heap.size + 1) UL.toArray (by rfl) (by rfl) 66 _ L2 (by rw [List.size_toArray]; exact s2) (by rw [arr_size, zA_len, List.size_toArray, q2]) a2 ?_)
    | fail)
  have bN : But w1.heap.size _ _ := (But.refl w1.heap.size ((w1.alloc (.cells (arr .u8 (zA 256)) 66)).alloc (.cells (arr .u8 (zA 256)) 66))).setRow BL.toArray
  have bM : But (w1.heap.size + 1) _ _ := (But.refl (w1.heap.size + 1) (((w1.alloc (.cells (arr .u8 (zA 256)) 66)).alloc (.cells (arr .u8 (zA 256)) 66)).setRow w1.heap.size BL.toArray)).setRow UL.toArray
  have M0 : Lies .u8 66 ((((w1.alloc (.cells (arr .u8 (zA 256)) 66)).alloc (.cells (arr .u8 (zA 256)) 66)).setRow w1.heap.size BL.toArray).setRow (w1.heap.size + 1) UL.toArray) w1.heap.size boxT := by
    refine Lies.but ?_ bM (by omega)
    rw [HE.out.1]
    exact L0.row
  have M1 : Lies .u8 66 ((((w1.alloc (.cells (arr .u8 (zA 256)) 66)).alloc (.cells (arr .u8 (zA 256)) 66)).setRow w1.heap.size BL.toArray).setRow (w1.heap.size + 1) UL.toArray) (w1.heap.size + 1) unT := by
    rw [HE.out.2]
    exact L2.row
  have hb2 := keep_trans (keep_trans hb1 (keep_alloc w1 (.cells (arr .u8 (zA 256)) 66))) (keep_alloc _ (.cells (arr .u8 (zA 256)) 66))
  have hg := hb1.size
  have hb3 := hb2.trans (bN.below (by omega) hb2.size)
  have hb4 := hb3.trans (bM.below (by omega) hb3.size)
  have HB4 := hide hb4
  clear bN bM hb1 hb2 hb3 L0 L1 L2 a1 a2 q1 q2 hz s1 s2
  generalize hG : w1.heap.size = G at *
  generalize (((w1.alloc (.cells (arr .u8 (zA 256)) 66)).alloc (.cells (arr .u8 (zA 256)) 66)).setRow G BL.toArray).setRow (G + 1) UL.toArray = x at *
  clear hG
  have rkx := rk.below hb4
  have rbx := rb.below hb4
  clear hb4 rk rb hg
  refine blo_6 (g := G) (g2 := G + 1) (key := key) (M := M) (R := fun y v => Row .u8 256 y v (keysL key)) (fun y hb => (hky y (rkx.below hb)).mono (by rintro e y' ⟨v, he, o, hb'⟩; exact ⟨v, he, o.row, hb'⟩)) (fun y v r hb => hth y v r (rbx.below hb)) ?_ ⟨rfl, rfl⟩ rfl rfl rfl rfl M0 M1
  rename_i Q' K hK'
  intro a y v fz v4 v5 o6 hb6
  have e0 : a.tmps.getD 4 undef = v := v4
  have e1 : a.tmps.getD 5 undef = .int .i64 0 := v5
  rw [Array.getD_eq_getD_getElem?] at e0 e1
  refine hK' _ _ (wp_ret ?_)
  refine bodyPost_ret (v := .tuple #[v, .int .i64 0]) ?_ fz.2 ⟨v, rfl, o6.row, (o6.mono HB4.out.size).new, keep_trans HB4.out hb6⟩
  simp [results, Try.results19, e0, e1]
set_option maxHeartbeats 8000000 in
set_option maxRecDepth 100000 in
theorem rbak_ok (key b : List Nat) (kv bv : Value) (w : World) (rk : Row .u8 256 w kv key) (rb : Row .u8 256 w bv b) (hk : SzK key) (hb : b.length = 16) :
    Calls Try.prog 26 #[kv, bv] w fun e w' => ∃ v, e = .returned (.tuple #[v, .int .i64 0]) ∧ Row .u8 256 w' v (bakA key b) ∧ New w.heap.size v ∧ Below w.heap.size w w' := by
  have hz := zero256
  have hzd : decide (key.length = 16 ∨ key.length = 24 ∨ key.length = 32) = true := decide_eq_true hk
  have hsz := rsz_any key kv w rk
  rw [hzd] at hsz
  have hbx := rboxes_any w
  obtain ⟨k, hk4, hl, hd4⟩ := hk.words
  have hbB : B16 b := ⟨hb, rb.under⟩
  obtain ⟨ba, bc, rfl, l1, l2, _⟩ := rb.opens hb
  obtain ⟨ka, kc, rfl, l3, l4, _⟩ := rk.opens rfl
  have hpl : bakA key b = bkN (k + 6) (keysL key) (k + 6) b := by unfold bakA; rw [hd4]
  have hky := fun y (r : Row .u8 256 y (.slice ka key.length kc) key) => rky_any k key _ y hk4 hl r
  have hth := fun y wv (rw : Row .u8 256 y wv (keysL key)) (rb2 : Row .u8 256 y (.slice ba 16 bc) b) => rbk_any (k + 6) (keysL key) b wv (.slice ba 16 bc) y (by omega) (by rw [keysL_len hl]) hbB rw rb2
  rw [← hpl] at hth
  obtain ⟨BL, hBL⟩ : ∃ l, l = vals .u8 boxT := ⟨_, rfl⟩
  obtain ⟨UL, hUL⟩ : ∃ l, l = vals .u8 unT := ⟨_, rfl⟩
  have e1 : arr .u8 boxT = BL.toArray := by rw [hBL]; rfl
  have e2 : arr .u8 unT = UL.toArray := by rw [hUL]; rfl
  have s1 : (Try.prog.info? 66).map (·.size) = some BL.length := by rw [hBL, vals_length, boxT_len]; kernel_rfl
  have s2 : (Try.prog.info? 66).map (·.size) = some UL.length := by rw [hUL, vals_length, unT_len]; kernel_rfl
  have q1 : BL.length = 256 := by rw [hBL, vals_length, boxT_len]
  have q2 : UL.length = 256 := by rw [hUL, vals_length, unT_len]
  have a1 : (BL.toArray).all (·.oneCell') = true := by rw [← e1]; exact arr_one _ _
  have a2 : (UL.toArray).all (·.oneCell') = true := by rw [← e2]; exact arr_one _ _
  have hu : Try.prog.underlying 66 = some (.array 256 5) := Try.underlying66
  rw [e1, e2] at hbx
  have HE := hide (And.intro hBL hUL)
  clear hBL hUL e1 e2 hpl hd4 hzd hl hk4 hk hb
  have HBB := hide hbB
  clear hbB
  generalize hM : bakA key b = M at *
  have HM := hide hM
  clear hM
  go_enter Try.func26, Try.ntmps26
  go_wp2_with (first
    | (go_at_call 18; refine hsz.mono ?_; rintro e yy ⟨rfl, hy⟩; obtain rfl := hy.symm)
    | (go_at_call 41; refine hbx.mono ?_; rintro e w1 ⟨rfl, hb1⟩; have L0 := (Lies.new .u8 66 w1 (zA 256)).alloc (.cells (arr .u8 (zA 256)) 66); have L1 := Lies.new .u8 66 (w1.alloc (.cells (arr .u8 (zA 256)) 66)) (zA 256); rw [World.size_alloc] at L1; have L2 : Lies .u8 66 (((w1.alloc (.cells (arr .u8 (zA 256)) 66)).alloc (.cells (arr .u8 (zA 256)) 66)).setRow w1.heap.size BL.toArray) (w1.heap.size + 1) (zA 256) := L1.but ((But.refl _ _).setRow _) (by omega))
    | (refine wpList_store_row rfl 66 _ _ (by rfl) w1.heap.size BL.toArray (by rfl) (by rfl) 66 _ L0 (by rw [List.size_toArray]; exact s1) (by rw [arr_size, zA_len, List.size_toArray, q1]) a1 ?_)
    | (refine wpList_store_row rfl 66 _ _ (by rfl) (w1.heap.size + 1) UL.toArray (by rfl) (by rfl) 66 _ L2 (by rw [List.size_toArray]; exact s2) (by rw [arr_size, zA_len, List.size_toArray, q2]) a2 ?_)
    | fail)
  have bN : But w1.heap.size _ _ := (But.refl w1.heap.size ((w1.alloc (.cells (arr .u8 (zA 256)) 66)).alloc (.cells (arr .u8 (zA 256)) 66))).setRow BL.toArray
  have bM : But (w1.heap.size + 1) _ _ := (But.refl (w1.heap.size + 1) (((w1.alloc (.cells (arr .u8 (zA 256)) 66)).alloc (.cells (arr .u8 (zA 256)) 66)).setRow w1.heap.size BL.toArray)).setRow UL.toArray
  have M0 : Lies .u8 66 ((((w1.alloc (.cells (arr .u8 (zA 256)) 66)).alloc (.cells (arr .u8 (zA 256)) 66)).setRow w1.heap.size BL.toArray).setRow (w1.heap.size + 1) UL.toArray) w1.heap.size boxT := by
    refine Lies.but ?_ bM (by omega)
    rw [HE.out.1]
    exact L0.row
  have M1 : Lies .u8 66 ((((w1.alloc (.cells (arr .u8 (zA 256)) 66)).alloc (.cells (arr .u8 (zA 256)) 66)).setRow w1.heap.size BL.toArray).setRow (w1.heap.size + 1) UL.toArray) (w1.heap.size + 1) unT := by
    rw [HE.out.2]
    exact L2.row
  have hb2 := keep_trans (keep_trans hb1 (keep_alloc w1 (.cells (arr .u8 (zA 256)) 66))) (keep_alloc _ (.cells (arr .u8 (zA 256)) 66))
  have hg := hb1.size
  have hb3 := hb2.trans (bN.below (by omega) hb2.size)
  have hb4 := hb3.trans (bM.below (by omega) hb3.size)
  have HB4 := hide hb4
  clear bN bM hb1 hb2 hb3 L0 L1 L2 a1 a2 q1 q2 hz s1 s2
  generalize hG : w1.heap.size = G at *
  generalize (((w1.alloc (.cells (arr .u8 (zA 256)) 66)).alloc (.cells (arr .u8 (zA 256)) 66)).setRow G BL.toArray).setRow (G + 1) UL.toArray = x at *
  clear hG
  have rkx := rk.below hb4
  have rbx := rb.below hb4
  clear hb4 rk rb hg
  refine bao_6 (g := G) (g2 := G + 1) (key := key) (M := M) (R := fun y v => Row .u8 256 y v (keysL key)) (fun y hb => (hky y (rkx.below hb)).mono (by rintro e y' ⟨v, he, o, hb'⟩; exact ⟨v, he, o.row, hb'⟩)) (fun y v r hb => hth y v r (rbx.below hb)) ?_ ⟨rfl, rfl⟩ rfl rfl rfl rfl M0 M1
  rename_i Q' K hK'
  intro a y v fz v4 v5 o6 hb6
  have e0 : a.tmps.getD 4 undef = v := v4
  have e1 : a.tmps.getD 5 undef = .int .i64 0 := v5
  rw [Array.getD_eq_getD_getElem?] at e0 e1
  refine hK' _ _ (wp_ret ?_)
  refine bodyPost_ret (v := .tuple #[v, .int .i64 0]) ?_ fz.2 ⟨v, rfl, o6.row, (o6.mono HB4.out.size).new, keep_trans HB4.out hb6⟩
  simp [results, Try.results26, e0, e1]
end Go.Proofs.Ytjnlkihhmenfnaa

/- Block and Back of both sides, whatever comes. -/
namespace Go.Proofs.Ytjnlkihhmenfnaa
open Go.RowKit
set_option linter.unusedVariables false
set_option linter.unusedSimpArgs false

theorem thA'_is (key b : List Nat) : blkA key b = thA' key b := rfl
theorem bkA'_is (key b : List Nat) : bakA key b = bkA' key b := rfl
/-- what is told: bytes and a number -/
def TellsW (w : World) (X : List Nat) (c : Int) (e : Ending) (w' : World) : Prop := ∃ v, e = .returned (.tuple #[v, .int .i64 c]) ∧ Row .u8 256 w' v X ∧ New w.heap.size v ∧ Below w.heap.size w w'
theorem tells_nil {w w' : World} {c : Int} {e : Ending} (he : e = .returned (.tuple #[.slice none 0 0, .int .i64 c])) (hb : Below w.heap.size w w') : TellsW w [] c e w' := ⟨_, he, Row.nil _ _ _, New.nil _ _ _, hb⟩
theorem both_blk (key b : List Nat) (kv bv : Value) (w : World) (rk : Row .u8 256 w kv key) (rb : Row .u8 256 w bv b) :
    ∃ (c : Int) (X : List Nat), (∀ y, Below w.heap.size w y → Calls Try.prog 15 #[kv, bv] y (TellsW y X c)) ∧ (∀ y, Below w.heap.size w y → Calls Try.prog 19 #[kv, bv] y (TellsW y X c)) := by
  by_cases hk : Sz3 key.length
  · by_cases hb : b.length = 16
    · exact ⟨0, thA' key b, fun y h => cblk_ok key b kv bv y (rk.below h) (rb.below h) hk hb, fun y h => rblk_ok key b kv bv y (rk.below h) (rb.below h) hk hb⟩
    · refine ⟨14, [], fun y h => (cblk_size key b kv bv y (rk.below h) (rb.below h) hk hb).mono ?_, fun y h => (rblk_size key b kv bv y (rk.below h) (rb.below h) hk hb).mono ?_⟩ <;> (rintro e y' ⟨he, hbb⟩; exact tells_nil he hbb)
  · refine ⟨10, [], fun y h => (cblk_key key kv bv y (rk.below h) hk).mono ?_, fun y h => (rblk_key key b kv bv y (rk.below h) hk).mono ?_⟩ <;> (rintro e y' ⟨he, hbb⟩; exact tells_nil he hbb)
theorem both_bak (key b : List Nat) (kv bv : Value) (w : World) (rk : Row .u8 256 w kv key) (rb : Row .u8 256 w bv b) :
    ∃ (c : Int) (X : List Nat), (∀ y, Below w.heap.size w y → Calls Try.prog 24 #[kv, bv] y (TellsW y X c)) ∧ (∀ y, Below w.heap.size w y → Calls Try.prog 26 #[kv, bv] y (TellsW y X c)) := by
  by_cases hk : Sz3 key.length
  · by_cases hb : b.length = 16
    · exact ⟨0, bkA' key b, fun y h => cbak_ok key b kv bv y (rk.below h) (rb.below h) hk hb, fun y h => rbak_ok key b kv bv y (rk.below h) (rb.below h) hk hb⟩
    · refine ⟨14, [], fun y h => (cbak_size key b kv bv y (rk.below h) (rb.below h) hk hb).mono ?_, fun y h => (rbak_size key b kv bv y (rk.below h) (rb.below h) hk hb).mono ?_⟩ <;> (rintro e y' ⟨he, hbb⟩; exact tells_nil he hbb)
  · refine ⟨10, [], fun y h => (cbak_key key kv bv y (rk.below h) hk).mono ?_, fun y h => (rbak_key key b kv bv y (rk.below h) hk).mono ?_⟩ <;> (rintro e y' ⟨he, hbb⟩; exact tells_nil he hbb)
end Go.Proofs.Ytjnlkihhmenfnaa
