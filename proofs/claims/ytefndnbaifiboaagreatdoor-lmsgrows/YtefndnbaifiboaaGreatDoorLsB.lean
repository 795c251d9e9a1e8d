/- Trees of leaves that sign once, the program's own: the number that has a typecode; a signature's kind. -/
import Derived.Test.YtefndnbaifiboaaGreatDoorLsA
import Derived.Test.YtefndnbaifiboaaGreatDoorBase
import Derived.Test.YtefndnbaifiboaaGreatDoorPgF
import Derived.Test.YtefndnbaifiboaaGreatDoorLcA
import Derived.Test.YtefndnbaifiboaaGreatDoorBSame
import Derived.Test.YtefndnbaifiboaaGreatDoorBitm
namespace Go.Proofs.YtefndnbaifiboaaGreatDoor
open Go.RowKit
set_option linter.unusedVariables false
set_option linter.unusedSimpArgs false

theorem findN_congr {P Q : Nat → Bool} : ∀ (k f : Nat), (∀ y, f ≤ y → P y = Q y) → findN P f k = findN Q f k
  | 0, _, _ => rfl
  | k + 1, f, h => by
    show (if P f = true then f else findN P (f + 1) k) = (if Q f = true then f else findN Q (f + 1) k)
    rw [h f (Nat.le_refl _), findN_congr k (f + 1) fun y hy => h y (by omega)]
/-- from 0 on, where nothing has typecode 0 but what is none -/
theorem findN_zero {g : Nat → Nat} (h0 : g 0 = 0) (c k : Nat) : findN (fun n => decide (g n = c)) 0 (k + 1) = findN (fun n => decide (g n = c ∧ c ≠ 0)) 1 k := by
  show (if decide (g 0 = c) = true then 0 else findN (fun n => decide (g n = c)) (0 + 1) k) = _
  by_cases hc : c = 0
  · subst hc
    rw [if_pos (by simp [h0])]
    have : ∀ (k f : Nat), findN (fun n => decide (g n = 0 ∧ (0 : Nat) ≠ 0)) f k = 0 := by
      intro k
      induction k with
      | zero => intro f; rfl
      | succ k ih => intro f; show (if _ then f else _) = 0; rw [if_neg (by simp)]; exact ih _
    exact (this _ _).symm
  · rw [if_neg (by rw [h0]; simp; exact fun e => hc e.symm)]
    exact findN_congr _ _ fun y _ => by simp [hc]
def FnZ (P : Nat → Bool) (T k0 : Nat) (vi : Value) (w wr : World) : Prop := ∃ f k : Nat, f + k = T ∧ vi = .int .i64 (f : Int) ∧ findN P f k = k0 ∧ wr = w
set_option maxHeartbeats 4000000 in
set_option maxRecDepth 100000 in
theorem whose_any (F : FuncId) (g : Nat → Nat) (N : Nat) (hN : N ≤ 100) (l : List Nat) (cv : Value) (w : World) (hl : Row .u8 256 w cv l)
    (he : ∀ (args : Array Value) (y : World), (callFunc F args).run Tryz.prog y = .ok (.enter F args) y)
    (hf : ∀ (n : Nat) (y : World), Calls Tryz.prog F #[.int .i64 (n : Int)] y fun e w' => e = .returned (.int .u64 (g n : Nat)) ∧ w' = y) :
    Calls Tryz.prog 90 #[cv, .func (.func F) #[] #[], .int .i64 (N : Int)] w fun e w' => e = .returned (.int .i64 (findN (fun n => decide (g n = numL l)) 0 (N + 1) : Nat)) ∧ w' = w := by
  obtain ⟨M, hM⟩ : ∃ M : Nat, M = N + 1 := ⟨_, rfl⟩
  have e_M : (N : Int) + 1 = (M : Int) := by omega
  have s_M : IntKind.i64.wrap (M : Int) = (M : Int) := by rw [IntKind.wrap_i64]; omega
  rw [← hM]
  have hn := num_any _ _ _ hl
  obtain ⟨c, hc⟩ : ∃ c, c = numL l := ⟨_, rfl⟩
  rw [← hc] at hn ⊢
  obtain ⟨P, hP⟩ : ∃ P : Nat → Bool, P = fun n => decide (g n = c) := ⟨_, rfl⟩
  rw [← hP]
  obtain ⟨R, hR⟩ : ∃ R, R = findN P 0 M := ⟨_, rfl⟩
  rw [← hR]
  have H0 : Hid (FnZ P M R (.int .i64 0) w w) := hide ⟨0, M, by omega, rfl, hR.symm, rfl⟩
  have HP := hide (And.intro hP (And.intro hM hN))
  clear hP hR hc hM hN hl
  go_enter Tryz.func90, Tryz.ntmps90
  go_wp2
  go_loopw [10] (fun vi wr => FnZ P M R vi w wr) (fun vi _ => M - (intOf vi).toNat)
  case atStart => exact H0.out
  case round =>
    obtain ⟨f, k, hfk, rfl, hfn, rfl⟩ := hrel
    clear H0
    by_cases hlt : f < M
    · obtain ⟨k', rfl⟩ : ∃ k', k = k' + 1 := ⟨k - 1, by omega⟩
      have hle : (f : Int) < (M : Int) := by omega
      have hst : (if P f = true then f else findN P (f + 1) k') = R := hfn
      obtain ⟨X, hX⟩ : ∃ X : Nat, X = g f := ⟨_, rfl⟩
      have hcf := hf f
      rw [← hX] at hcf
      have hPf : P f = decide (X = c) := by rw [HP.out.1, hX]
      obtain ⟨I, hI⟩ : ∃ I : Nat, I = f + 1 := ⟨_, rfl⟩
      have e_I : (f : Int) + 1 = (I : Int) := by omega
      have s_I : IntKind.i64.wrap (I : Int) = (I : Int) := by rw [IntKind.wrap_i64]; have := HP.out.2; omega
      have HK := hide (And.intro hst (And.intro hX (And.intro hPf (And.intro hI (And.intro hfk hlt)))))
      by_cases hq : X = c
      · have hqi : (X : Int) = (c : Int) := by omega
        have HQ := hide hq
        clear hst hX hPf hI hfn hfk hlt hq
        go_wp2_with (first
          | (go_at_call 45; refine hn.mono ?_; rintro e yy ⟨rfl, hy⟩; obtain rfl := hy.symm)
          | (refine (hcf _).mono ?_; rintro e yy ⟨rfl, hy⟩; obtain rfl := hy.symm)
          | fail)
        go_ret
        obtain ⟨hst, hX, hPf, hI, hfk, hlt⟩ := HK.out
        exact ⟨by rw [← hst, if_pos (by rw [hPf]; simp [HQ.out])]; rfl, rfl⟩
      · have hqi : ¬ (X : Int) = (c : Int) := by omega
        have HQ := hide hq
        clear hst hX hPf hI hfn hfk hlt hq
        go_wp2_with (first
          | (go_at_call 45; refine hn.mono ?_; rintro e yy ⟨rfl, hy⟩; obtain rfl := hy.symm)
          | (refine (hcf _).mono ?_; rintro e yy ⟨rfl, hy⟩; obtain rfl := hy.symm)
          | fail)
        obtain ⟨hst, hX, hPf, hI, hfk, hlt⟩ := HK.out
        go_roundw
        case rel => exact ⟨f + 1, k', by omega, vint (by omega), by rw [← hst, if_neg (by rw [hPf]; simp [HQ.out])], rfl⟩
        case measure => simp [intOf]; omega
    · obtain rfl : k = 0 := by omega
      have hR0 : R = 0 := hfn.symm
      have hge : ¬ (f : Int) < (M : Int) := by omega
      rw [hR0]
      clear hfn hfk hlt
      go_wp2
      go_ret
      exact ⟨rfl, rfl⟩
set_option maxHeartbeats 4000000 in
set_option maxRecDepth 100000 in
theorem cheightOf (l : List Nat) (cv : Value) (w : World) (hl : Row .u8 256 w cv l) : Calls Tryz.prog 75 #[cv] w fun e w' => e = .returned (.int .i64 (hgtL (numL l) : Nat)) ∧ w' = w := by
  have hw := whose_any 32 (fun n => lmCode (n : Int)) 25 (by decide) l cv w hl (fun args y => by simp [Tryz.call32]) (fun n y => chc_any _ y)
  rw [findN_zero (g := fun n => lmCode (n : Int)) (by decide)] at hw
  have e0 : hgtL (numL l) = findN (fun n => decide (lmCode (n : Int) = numL l ∧ numL l ≠ 0)) 1 25 := rfl
  rw [← e0] at hw
  generalize hgtL (numL l) = R at *
  clear e0
  go_enter Tryz.func75, Tryz.ntmps75
  go_wp2_with (first
    | (go_at_call 90; refine hw.mono ?_; rintro e yy ⟨rfl, hy⟩; obtain rfl := hy.symm)
    | fail)
  go_ret
  exact ⟨rfl, rfl⟩
set_option maxHeartbeats 4000000 in
set_option maxRecDepth 100000 in
theorem cwidthOf (l : List Nat) (cv : Value) (w : World) (hl : Row .u8 256 w cv l) : Calls Tryz.prog 74 #[cv] w fun e w' => e = .returned (.int .i64 (dgtL (numL l) : Nat)) ∧ w' = w := by
  have hw := whose_any 37 kdC 8 (by decide) l cv w hl (fun args y => by simp [Tryz.call37]) (fun n y => by have := cwc_any (n : Int) y; rwa [wdC_nat] at this)
  rw [findN_zero (g := kdC) (by decide)] at hw
  have e0 : dgtL (numL l) = findN (fun n => decide (kdC n = numL l ∧ numL l ≠ 0)) 1 8 := rfl
  rw [← e0] at hw
  generalize dgtL (numL l) = R at *
  clear e0
  go_enter Tryz.func74, Tryz.ntmps74
  go_wp2_with (first
    | (go_at_call 90; refine hw.mono ?_; rintro e yy ⟨rfl, hy⟩; obtain rfl := hy.symm)
    | fail)
  go_ret
  exact ⟨rfl, rfl⟩
end Go.Proofs.YtefndnbaifiboaaGreatDoor

/- Trees of leaves that sign once, the program's own: the kind of a signature's tree. -/
namespace Go.Proofs.YtefndnbaifiboaaGreatDoor
open Go.RowKit
set_option linter.unusedVariables false
set_option linter.unusedSimpArgs false

theorem below_setRow {w y : World} {B : Nat} {vs : Array Value} (h : Below w.heap.size w y) (hB : w.heap.size ≤ B) : Below w.heap.size w (y.setRow B vs) := h.trans (((But.refl B y).setRow vs).below hB h.size)
theorem Bx2T.row {W : World} {B : Nat} {a b a' b' : Value} (h : Bx2T W B a b) : Bx2T (W.setRow B #[a', b']) B a' b' := ⟨setRow_heap W B _ _ _ _ h.here⟩
theorem Bx2T.but {W W' : World} {B g : Nat} {a b : Value} (h : Bx2T W B a b) (hb : But g W W') (hne : B ≠ g) : Bx2T W' B a b := ⟨(hb.block _ h.lt hne).trans h.here⟩
theorem Bx2T.ret {W : World} {B : Nat} {a b : Value} (h : Bx2T W B a b) {fn : Func} {p q : Tmp} (hr : fn.results = #[.cell p 23, .tmp q]) (tmps : Array Value) {v : Value} (hp : tmps.getD p undef = .pointer (some ⟨B, 0, none⟩)) (hv : tmps.getD q undef = v) :
    (results fn tmps).run Tryz.prog W = .ok (.tuple #[.agg #[a, b], v]) W := by
  subst hv
  have hp' : tmps[p]?.getD undef = .pointer (some ⟨B, 0, none⟩) := by simpa using hp
  simp [results, hr, hp', asAddr, run_loadVar_row W B 23 23 #[a, b] (0, 0) _ h.here Tryz.underlying23 rfl (by kernel_rfl)]
/-- what is wrong with a signature's typecodes -/
def kkE (b : List Nat) : Nat := if b.length < 8 then 1 else if ctW b = 0 then 9 else if b.length < 8 + szW (ctW b) then 1 else if ctH b = 0 then 9 else 0
theorem ctE_kk (b : List Nat) : ctE b = if kkE b ≠ 0 then kkE b else if b.length < ctN b then 1 else 0 := by
  unfold ctE kkE ctA
  by_cases h1 : b.length < 8
  · simp [h1]
  by_cases h2 : ctW b = 0
  · simp [h1, h2]
  by_cases h3 : b.length < 8 + szW (ctW b)
  · simp [h1, h2, h3, show b.length < 4 + szW (ctW b) + 4 by omega]
  by_cases h4 : ctH b = 0
  · simp [h1, h2, h3, h4, show ¬ b.length < 4 + szW (ctW b) + 4 by omega]
  · simp [h1, h2, h3, h4, show ¬ b.length < 4 + szW (ctW b) + 4 by omega]
theorem kkE_zero {b : List Nat} (h : kkE b = 0) : 8 ≤ b.length ∧ ctW b ≠ 0 ∧ 8 + szW (ctW b) ≤ b.length ∧ ctH b ≠ 0 := by
  unfold kkE at h
  by_cases h1 : b.length < 8
  · simp [h1] at h
  by_cases h2 : ctW b = 0
  · simp [h1, h2] at h
  by_cases h3 : b.length < 8 + szW (ctW b)
  · simp [h1, h2, h3] at h
  by_cases h4 : ctH b = 0
  · simp [h1, h2, h3, h4] at h
  exact ⟨by omega, h2, by omega, h4⟩
theorem fit_ct {b : List Nat} (h1 : ctW b ≠ 0) (h2 : ctH b ≠ 0) : FitL (ctH b : Nat) (ctW b : Nat) := by
  constructor
  · rcases hgtL_or (numL ((b.drop (ctA b)).take 4)) with h | ⟨h, h3, _⟩
    · exact absurd h h2
    · show lmCode ((hgtL (numL ((b.drop (ctA b)).take 4)) : Nat) : Int) ≠ 0
      rw [h]; exact h3
  · rcases dgtL_or (numL ((b.drop 4).take 4)) with h | ⟨n, m, s, h⟩
    · exact absurd h h1
    · show szW ((dgtL (numL ((b.drop 4).take 4)) : Nat) : Int) ≠ 0
      have e0 : ∀ {k n m s c : Nat}, Kd k n m s c → szW (k : Int) ≠ 0 := fun hk => by cases hk <;> decide
      exact e0 h
set_option maxHeartbeats 4000000 in
set_option maxRecDepth 100000 in
theorem ckindb_1 (L : Nat) (ba : Option Addr) (bc : Nat) (w : World) (h8 : L < 8) :
    Calls Tryz.prog 40 #[.slice ba L bc] w fun e w' => e = .returned (.tuple #[.agg #[.int .i64 0, .int .i64 0], .int .i64 1]) ∧ Below w.heap.size w w' := by
  have hi : (L : Int) < 8 := by omega
  have z0 := Bx2T.new w (.int .i64 0) (.int .i64 0)
  have hbw := keep_alloc w (.cells #[.int .i64 0, .int .i64 0] 23)
  go_enter Tryz.func40, Tryz.ntmps40
  go_wp2_with (first
    | (refine wpList_store_row rfl 23 _ _ (by rfl) w.heap.size #[.int .i64 0, .int .i64 0] (by rfl) (by rfl) _ _ z0.here (by kernel_rfl) rfl (by simp [Value.oneCell']) ?_)
    | fail)
  refine bodyPost_ret (z0.row.ret rfl _ rfl rfl) rfl ⟨rfl, below_setRow hbw (Nat.le_refl _)⟩
set_option maxHeartbeats 4000000 in
set_option maxRecDepth 100000 in
theorem ckindb_2 (b : List Nat) (bv : Value) (w : World) (hb : Row .u8 256 w bv b) (h8 : 8 ≤ b.length) (hw : ctW b = 0) :
    Calls Tryz.prog 40 #[bv] w fun e w' => e = .returned (.tuple #[.agg #[.int .i64 0, .int .i64 0], .int .i64 9]) ∧ Below w.heap.size w w' := by
  have z0 := Bx2T.new w (.int .i64 0) (.int .i64 0)
  have hbw := keep_alloc w (.cells #[.int .i64 0, .int .i64 0] 23)
  have hrow := hb
  obtain ⟨ba, bc, rfl, lc1, lc2, ho⟩ := hb.opens rfl
  obtain ⟨bb, bo, rfl, _⟩ := ho (by omega)
  have r4 : Row .u8 256 w (.slice (some ⟨bb, bo + 4, none⟩) 4 (bc - 4)) ((b.drop 4).take 4) := hrow.mid (i := 4) (j := 8) (by decide) (by omega)
  have hwd := cwidthOf _ _ _ (r4.below hbw)
  rw [show dgtL (numL ((b.drop 4).take 4)) = ctW b from rfl, hw] at hwd
  have hi8 : ¬ (b.length : Int) < 8 := by omega
  have h8c : (8 : Int) ≤ (bc : Int) := by omega
  generalize b.length = L at *
  clear hb hrow r4 hw ho h8
  go_enter Tryz.func40, Tryz.ntmps40
  go_wp2_with (first
    | (go_at_call 74; refine hwd.mono ?_; rintro e yy ⟨rfl, hy⟩; obtain rfl := hy.symm)
    | (refine wpList_store_row rfl 23 _ _ (by rfl) w.heap.size #[.int .i64 0, .int .i64 0] (by rfl) (by rfl) _ _ z0.here (by kernel_rfl) rfl (by simp [Value.oneCell']) ?_)
    | fail)
  refine bodyPost_ret (z0.row.ret rfl _ rfl rfl) rfl ⟨rfl, below_setRow hbw (Nat.le_refl _)⟩
set_option maxHeartbeats 4000000 in
set_option maxRecDepth 100000 in
theorem ckindb_3 (b : List Nat) (bv : Value) (w : World) (hb : Row .u8 256 w bv b) (h8 : 8 ≤ b.length) (hw : ctW b ≠ 0) (hL : b.length < 8 + szW (ctW b)) :
    Calls Tryz.prog 40 #[bv] w fun e w' => e = .returned (.tuple #[.agg #[.int .i64 0, .int .i64 0], .int .i64 1]) ∧ Below w.heap.size w w' := by
  have z0 := Bx2T.new w (.int .i64 0) (.int .i64 0)
  have hbw := keep_alloc w (.cells #[.int .i64 0, .int .i64 0] 23)
  have hrow := hb
  obtain ⟨ba, bc, rfl, lc1, lc2, ho⟩ := hb.opens rfl
  obtain ⟨bb, bo, rfl, _⟩ := ho (by omega)
  have r4 : Row .u8 256 w (.slice (some ⟨bb, bo + 4, none⟩) 4 (bc - 4)) ((b.drop 4).take 4) := hrow.mid (i := 4) (j := 8) (by decide) (by omega)
  have hwd := cwidthOf _ _ _ (r4.below hbw)
  rw [show dgtL (numL ((b.drop 4).take 4)) = ctW b from rfl] at hwd
  have hbe := fun y => cbesideAt (ctW b : Nat) y
  obtain ⟨E, hE⟩ : ∃ E, E = 8 + szW (ctW b) := ⟨_, rfl⟩
  rw [← hE] at hbe hL
  have hi8 : ¬ (b.length : Int) < 8 := by omega
  have h8c : (8 : Int) ≤ (bc : Int) := by omega
  have hWi : ¬ ((ctW b : Nat) : Int) = 0 := by omega
  have hWb : (((ctW b : Nat) : Int) == 0) = false := by simp; exact hw
  have hLi : (b.length : Int) < (E : Int) := by omega
  clear hE hL hw
  generalize ctW b = W at *
  generalize b.length = L at *
  clear hb hrow r4 ho h8
  go_enter Tryz.func40, Tryz.ntmps40
  go_wp2_with (first
    | (go_at_call 74; refine hwd.mono ?_; rintro e yy ⟨rfl, hy⟩; obtain rfl := hy.symm)
    | (go_at_call 39; refine (hbe _).mono ?_; rintro e w1 ⟨rfl, g1⟩; have z1 := z0.below g1)
    | (refine wpList_store_row rfl 23 _ _ (by rfl) w.heap.size #[.int .i64 0, .int .i64 0] (by rfl) (by rfl) _ _ z1.here (by kernel_rfl) rfl (by simp [Value.oneCell']) ?_)
    | fail)
  refine bodyPost_ret (z1.row.ret rfl _ rfl rfl) rfl ⟨rfl, below_setRow (keep_trans hbw g1) (Nat.le_refl _)⟩
set_option maxHeartbeats 4000000 in
set_option maxRecDepth 100000 in
theorem ckindb_4 (b : List Nat) (bv : Value) (w : World) (hb : Row .u8 256 w bv b) (h8 : 8 ≤ b.length) (hw : ctW b ≠ 0) (hL : 8 + szW (ctW b) ≤ b.length) :
    Calls Tryz.prog 40 #[bv] w fun e w' => e = .returned (if ctH b = 0 then .tuple #[.agg #[.int .i64 0, .int .i64 0], .int .i64 9] else .tuple #[.agg #[.int .i64 (ctH b : Nat), .int .i64 (ctW b : Nat)], .int .i64 0]) ∧ Below w.heap.size w w' := by
  have z0 := Bx2T.new w (.int .i64 0) (.int .i64 0)
  have hbw := keep_alloc w (.cells #[.int .i64 0, .int .i64 0] 23)
  have hrow := hb
  obtain ⟨ba, bc, rfl, lc1, lc2, ho⟩ := hb.opens rfl
  obtain ⟨bb, bo, rfl, _⟩ := ho (by omega)
  have r4 : Row .u8 256 w (.slice (some ⟨bb, bo + 4, none⟩) 4 (bc - 4)) ((b.drop 4).take 4) := hrow.mid (i := 4) (j := 8) (by decide) (by omega)
  have hwd := cwidthOf _ _ _ (r4.below hbw)
  rw [show dgtL (numL ((b.drop 4).take 4)) = ctW b from rfl] at hwd
  have hbe := fun y => cbesideAt (ctW b : Nat) y
  have hco := fun y => ccodeAt (ctW b : Nat) y
  have hzl := szW_le (ctW b)
  obtain ⟨E, hE⟩ : ∃ E, E = 8 + szW (ctW b) := ⟨_, rfl⟩
  obtain ⟨A, hA⟩ : ∃ A, A = 4 + szW (ctW b) := ⟨_, rfl⟩
  have hcA : ctA b = A := by rw [hA]; rfl
  rw [← hE] at hbe hL
  rw [← hA] at hco
  have rA : Row .u8 256 w (.slice (some ⟨bb, bo + A, none⟩) 4 (bc - A)) ((b.drop A).take 4) := by
    have := hrow.mid (i := A) (j := A + 4) (by omega) (by omega)
    rwa [Nat.add_sub_cancel_left] at this
  have hhd := fun y (k : Below w.heap.size w y) => cheightOf _ _ y (rA.below k)
  rw [show hgtL (numL ((b.drop A).take 4)) = ctH b by rw [← hcA]; rfl] at hhd
  have hft := fun y => cfitT_any (ctH b : Nat) (ctW b : Nat) y
  have hdec : decide (FitL (ctH b : Nat) (ctW b : Nat)) = !(decide (ctH b = 0)) := by
    by_cases h0 : ctH b = 0
    · rw [decide_eq_false (fun hh => hh.1 (by rw [h0]; rfl))]; simp [h0]
    · rw [decide_eq_true (fit_ct hw h0)]; simp [h0]
  rw [hdec] at hft
  have hi8 : ¬ (b.length : Int) < 8 := by omega
  have h8c : (8 : Int) ≤ (bc : Int) := by omega
  have hWi : ¬ ((ctW b : Nat) : Int) = 0 := by omega
  have hWb : (((ctW b : Nat) : Int) == 0) = false := by simp; exact hw
  have hLi : ¬ (b.length : Int) < (E : Int) := by omega
  have hAE : (A : Int) ≤ (E : Int) := by omega
  have hEc : (E : Int) ≤ (bc : Int) := by omega
  have hEA : E - A = 4 := by omega
  have hEAi : (E : Int) - (A : Int) = 4 := by omega
  have z_A : (0 : Int) ≤ (A : Int) := Int.natCast_nonneg _
  clear hE hA hL hw hcA hzl hdec rA
  generalize ctW b = W at *
  generalize ctH b = H at *
  generalize b.length = L at *
  clear hb hrow r4 ho h8
  by_cases h0 : H = 0
  · rw [if_pos h0]
    rw [decide_eq_true h0, h0] at hft
    rw [h0] at hhd
    clear h0
    go_enter Tryz.func40, Tryz.ntmps40
    go_wp2_with (first
      | (go_at_call 74; refine hwd.mono ?_; rintro e yy ⟨rfl, hy⟩; obtain rfl := hy.symm; clear hwd)
      | (go_at_call 39; have hbu := hbe; clear hbe; refine (hbu _).mono ?_; rintro e w1 ⟨rfl, g1⟩; have z1 := z0.below g1; have k1 := keep_trans hbw g1)
      | (go_at_call 47; refine (hco _).mono ?_; rintro e w2 ⟨rfl, g2⟩; have z2 := z1.below g2; have k2 := keep_trans k1 g2)
      | (go_at_call 39; refine (hbu _).mono ?_; rintro e w3 ⟨rfl, g3⟩; have z3 := z2.below g3; have k3 := keep_trans k2 g3)
      | (go_at_call 75; refine (hhd _ k3).mono ?_; rintro e yy ⟨rfl, hy⟩; obtain rfl := hy.symm)
      | (go_at_call 12; refine (hft _).mono ?_; rintro e w4 ⟨rfl, g4⟩; have z4 := (z3.below (keep_alloc _ _)).below g4; have k4 := keep_trans (keep_trans k3 (keep_alloc _ _)) g4; have zm := (Bx2T.new w3 _ _).below g4)
      | (refine wpList_store_row rfl 23 _ _ (by rfl) w.heap.size #[.int .i64 0, .int .i64 0] (by rfl) (by rfl) _ _ z4.here (by kernel_rfl) rfl (by simp [Value.oneCell']) ?_)
      | fail)
    refine bodyPost_ret (z4.row.ret rfl _ rfl rfl) rfl ⟨rfl, below_setRow k4 (Nat.le_refl _)⟩
  · rw [if_neg h0]
    rw [decide_eq_false h0] at hft
    clear h0
    go_enter Tryz.func40, Tryz.ntmps40
    go_wp2_with (first
      | (go_at_call 74; refine hwd.mono ?_; rintro e yy ⟨rfl, hy⟩; obtain rfl := hy.symm; clear hwd)
      | (go_at_call 39; have hbu := hbe; clear hbe; refine (hbu _).mono ?_; rintro e w1 ⟨rfl, g1⟩; have z1 := z0.below g1; have k1 := keep_trans hbw g1)
      | (go_at_call 47; refine (hco _).mono ?_; rintro e w2 ⟨rfl, g2⟩; have z2 := z1.below g2; have k2 := keep_trans k1 g2)
      | (go_at_call 39; refine (hbu _).mono ?_; rintro e w3 ⟨rfl, g3⟩; have z3 := z2.below g3; have k3 := keep_trans k2 g3)
      | (go_at_call 75; refine (hhd _ k3).mono ?_; rintro e yy ⟨rfl, hy⟩; obtain rfl := hy.symm)
      | (go_at_call 12; refine (hft _).mono ?_; rintro e w4 ⟨rfl, g4⟩; have z4 := (z3.below (keep_alloc _ _)).below g4; have k4 := keep_trans (keep_trans k3 (keep_alloc _ _)) g4; have zm := (Bx2T.new w3 _ _).below g4)
      | (refine wpList_load_row rfl 23 _ (by rfl) w3.heap.size (by rfl) _ _ _ _ zm.here Tryz.underlying23 rfl (by kernel_rfl) ?_)
      | (refine wpList_store_row rfl 23 _ _ (by rfl) w.heap.size #[.int .i64 (H : Int), .int .i64 (W : Int)] (by rfl) (by rfl) _ _ z4.here (by kernel_rfl) rfl (by simp [Value.oneCell']) ?_)
      | fail)
    refine bodyPost_ret (z4.row.ret rfl _ rfl rfl) rfl ⟨rfl, below_setRow k4 (Nat.le_refl _)⟩
theorem ckindb_any (b : List Nat) (bv : Value) (w : World) (hb : Row .u8 256 w bv b) :
    Calls Tryz.prog 40 #[bv] w fun e w' => e = .returned (if kkE b = 0 then .tuple #[.agg #[.int .i64 (ctH b : Nat), .int .i64 (ctW b : Nat)], .int .i64 0] else .tuple #[.agg #[.int .i64 0, .int .i64 0], .int .i64 (kkE b : Nat)]) ∧ Below w.heap.size w w' := by
  unfold kkE
  by_cases h1 : b.length < 8
  · simp only [h1, if_true]
    obtain ⟨ba, bc, rfl, _⟩ := hb.opens rfl
    exact ckindb_1 _ _ _ w h1
  by_cases h2 : ctW b = 0
  · simp only [h1, h2, if_true, if_false]
    exact ckindb_2 b bv w hb (by omega) h2
  by_cases h3 : b.length < 8 + szW (ctW b)
  · simp only [h1, h2, h3, if_true, if_false]
    exact ckindb_3 b bv w hb (by omega) h2 h3
  have := ckindb_4 b bv w hb (by omega) h2 (by omega)
  by_cases h4 : ctH b = 0
  · simp only [h1, h2, h3, h4, if_true, if_false] at this ⊢
    exact this
  · simp only [h1, h2, h3, h4, if_true, if_false] at this ⊢
    exact this
end Go.Proofs.YtefndnbaifiboaaGreatDoor

/- Steps of a plan: one, three, four texts written out as a list. -/
namespace Go.Proofs.YtefndnbaifiboaaGreatDoor
open Go.RowKit
set_option linter.unusedVariables false
set_option linter.unusedSimpArgs false

theorem p_b1 {ops : Array Oper} {Q : Exit → Act → World → Prop} {K : Act → World → Prop} {i : Nat} {o : Oper} {a : Act} {w : World} {t e : TypeId} {p : Operand} {adp : Option Addr} {np cp : Nat} {d : Option Nat} {z : TypeInfo} (hi : ops[i]? = some o) (hw : Region.wanted o (yielded ops a.tmps) = true) (ho : o.op = .buildSlice t 1 #[(0, p)]) (hp : a.eval p = .slice adp np cp) (hd : o.dst = d)
    (hu : Tryz.prog.underlying t = some (.slice e)) (hz : Tryz.prog.info? e = some z) (hsz : z.size = 1) (hz0 : z.zero = some (.slice none 0 0)) (h : K (a.put d (.slice (some ⟨w.heap.size, 0, none⟩) 1 1)) (w.alloc (.cells #[.slice adp np cp] e))) : wpOp Tryz.prog ops Q i K a w := by
  have hr : (execOp a.eval o).run Tryz.prog w = .ok (.value (.slice (some ⟨w.heap.size, 0, none⟩) 1 1)) (w.alloc (.cells #[.slice adp np cp] e)) := by
    unfold execOp
    simp only [ho, List.map_toArray, List.map_cons, List.map_nil, hp]
    simp [Sem.run_bind, run_underlying hu, sizeOf, typeInfo, zeroValue, hz, hsz, hz0, go_sem]
  unfold wpOp
  simp only [hi]
  rw [if_pos hw]
  left
  unfold Oper.wp
  rw [hr]
  show K (a.put o.dst _) _
  rw [hd]
  exact h
theorem p_b3 {ops : Array Oper} {Q : Exit → Act → World → Prop} {K : Act → World → Prop} {i : Nat} {o : Oper} {a : Act} {w : World} {t e : TypeId} {p q r : Operand} {adp adq adr : Option Addr} {np cp nq cq nr cr : Nat} {d : Option Nat} {z : TypeInfo} (hi : ops[i]? = some o) (hw : Region.wanted o (yielded ops a.tmps) = true) (ho : o.op = .buildSlice t 3 #[(0, p), (1, q), (2, r)]) (hp : a.eval p = .slice adp np cp) (hq : a.eval q = .slice adq nq cq) (hr : a.eval r = .slice adr nr cr) (hd : o.dst = d)
    (hu : Tryz.prog.underlying t = some (.slice e)) (hz : Tryz.prog.info? e = some z) (hsz : z.size = 1) (hz0 : z.zero = some (.slice none 0 0)) (h : K (a.put d (.slice (some ⟨w.heap.size, 0, none⟩) 3 3)) (w.alloc (.cells #[.slice adp np cp, .slice adq nq cq, .slice adr nr cr] e))) : wpOp Tryz.prog ops Q i K a w := by
  have hr : (execOp a.eval o).run Tryz.prog w = .ok (.value (.slice (some ⟨w.heap.size, 0, none⟩) 3 3)) (w.alloc (.cells #[.slice adp np cp, .slice adq nq cq, .slice adr nr cr] e)) := by
    unfold execOp
    simp only [ho, List.map_toArray, List.map_cons, List.map_nil, hp, hq, hr]
    simp [Sem.run_bind, run_underlying hu, sizeOf, typeInfo, zeroValue, hz, hsz, hz0, go_sem]
  unfold wpOp
  simp only [hi]
  rw [if_pos hw]
  left
  unfold Oper.wp
  rw [hr]
  show K (a.put o.dst _) _
  rw [hd]
  exact h
theorem p_b4 {ops : Array Oper} {Q : Exit → Act → World → Prop} {K : Act → World → Prop} {i : Nat} {o : Oper} {a : Act} {w : World} {t e : TypeId} {p q r s : Operand} {adp adq adr ads : Option Addr} {np cp nq cq nr cr ns cs : Nat} {d : Option Nat} {z : TypeInfo} (hi : ops[i]? = some o) (hw : Region.wanted o (yielded ops a.tmps) = true) (ho : o.op = .buildSlice t 4 #[(0, p), (1, q), (2, r), (3, s)]) (hp : a.eval p = .slice adp np cp) (hq : a.eval q = .slice adq nq cq) (hr : a.eval r = .slice adr nr cr) (hs : a.eval s = .slice ads ns cs) (hd : o.dst = d)
    (hu : Tryz.prog.underlying t = some (.slice e)) (hz : Tryz.prog.info? e = some z) (hsz : z.size = 1) (hz0 : z.zero = some (.slice none 0 0)) (h : K (a.put d (.slice (some ⟨w.heap.size, 0, none⟩) 4 4)) (w.alloc (.cells #[.slice adp np cp, .slice adq nq cq, .slice adr nr cr, .slice ads ns cs] e))) : wpOp Tryz.prog ops Q i K a w := by
  have hr : (execOp a.eval o).run Tryz.prog w = .ok (.value (.slice (some ⟨w.heap.size, 0, none⟩) 4 4)) (w.alloc (.cells #[.slice adp np cp, .slice adq nq cq, .slice adr nr cr, .slice ads ns cs] e)) := by
    unfold execOp
    simp only [ho, List.map_toArray, List.map_cons, List.map_nil, hp, hq, hr, hs]
    simp [Sem.run_bind, run_underlying hu, sizeOf, typeInfo, zeroValue, hz, hsz, hz0, go_sem]
  unfold wpOp
  simp only [hi]
  rw [if_pos hw]
  left
  unfold Oper.wp
  rw [hr]
  show K (a.put o.dst _) _
  rw [hd]
  exact h
end Go.Proofs.YtefndnbaifiboaaGreatDoor

/- Leaves that sign once, the program's own: sum. -/
namespace Go.Proofs.YtefndnbaifiboaaGreatDoor
open Go.RowKit
set_option linter.unusedVariables false
set_option linter.unusedSimpArgs false

/-- an operation of a plan, by its own law -/
theorem p_wpG {P : Program} {ops : Array Oper} {Q : Exit → Act → World → Prop} {K : Act → World → Prop} {i : Nat} {o : Oper} {a : Act} {w : World} (hi : ops[i]? = some o) (hw : Region.wanted o (yielded ops a.tmps) = true) (h : o.wp P a w K Q) : wpOp P ops Q i K a w := by
  unfold wpOp
  simp only [hi]
  rw [if_pos hw]
  left
  exact h
theorem p_appT {P : Program} {ops : Array Oper} {Q : Exit → Act → World → Prop} {K : Act → World → Prop} {i_ : Nat} {o : Oper} {a : Act} {w : World} {d : Option Nat} (hi : ops[i_]? = some o) (hw : Region.wanted o (yielded ops a.tmps) = true) (hd : o.dst = d) (s x : Operand) (t tx e' : TypeId)
    (ho : o.op = .call { callee := .builtin .append, args := #[s, x], argTypes := #[t, tx] }) (htx : P.underlying tx = some (.slice e'))
    (base : Nat) (e : TypeId) (i : TypeInfo) (z : Value) (bytes : Nat) (ht : P.underlying t = some (.slice e)) (hi0 : P.info? e = some i) (hz : i.zero = some z)
    (hsize : i.size = 1) (hby : i.bytes = bytes) (hzs : z.cells.size = 1)
    (v : Value) (n : Nat) (xs : List Value) (hs : a.eval s = v) (hown : w.ownsRow base e 1 v n xs)
    (ad : Option Addr) (m c : Nat) (news : List Value) (hx : a.eval x = .slice ad m c) (hl : news.length = m)
    (hnews : 0 < m → ∃ b off, ad = some ⟨b, off, none⟩ ∧ ∀ j u, news[j]? = some u → w.cell? ⟨b, off + j, none⟩ = some u) (h1 : ∀ u ∈ news, u.oneCell' = true)
    (h63 : n + m ≤ maxLen) (hbytes : (n + m) * bytes ≤ 140737488355328) (hbase : base ≤ w.heap.size)
    (h : ∀ v' w', w'.ownsRow base e 1 v' (n + m) (xs ++ news) → w.grownBy w' v.ownBlock → K (a.put d v') w') : wpOp P ops Q i_ K a w :=
  p_wpG hi hw (wp_append_rows w s x t tx e' ho htx base e i z bytes ht hi0 hz hsize hby hzs v n xs hs hown ad m c news hx hl hnews h1 h63 hbytes hbase fun v' w' k1 k2 => by rw [hd]; exact h v' w' k1 k2)
theorem row_grownN {w0 w w' : World} {q : Nat} {u : Value} {l : List Nat} (h : Row .u8 256 w0 u l) (hb : Below w0.heap.size w0 w) (hg : w.grownBy w' (some q)) (hq : w0.heap.size ≤ q) : Row .u8 256 w' u l := by
  obtain ⟨a, cap, rfl, h1, h2, h3, h4⟩ := h
  refine ⟨a, cap, rfl, h1, h2, fun hl => ?_, h4⟩
  obtain ⟨b, off, rfl, hc⟩ := h3 hl
  refine ⟨b, off, rfl, fun i hi => ?_⟩
  have hlt := World.block_lt_of_cell? w0 _ (hc i hi)
  refine hg.cell ((hb.cell (p := ⟨b, off + i, none⟩) hlt).trans (hc i hi)) ?_
  show some b ≠ some q
  intro e
  have : b = q := Option.some.inj e
  have : b < w0.heap.size := hlt
  omega
theorem texts_grownN {w0 w w' : World} {q : Nat} {us : List Value} {ls : List (List Nat)} (h : Texts w0 us ls) (hb : Below w0.heap.size w0 w) (hg : w.grownBy w' (some q)) (hq : w0.heap.size ≤ q) : Texts w' us ls :=
  ⟨h.1, fun i hi => by obtain ⟨u, k1, k2, k3⟩ := h.2 i hi; exact ⟨u, k1, row_grownN k2 hb hg hq, k3⟩⟩
theorem lf_range (w : World) (a b c d e : Value) (t : TypeId) : (w.alloc (.cells #[a, b, c, d, e] t)).rangeAt w.heap.size 0 [a, b, c, d, e] := fun j v hv => by
  rw [World.cell?_alloc_at _ _ _ _ rfl, Nat.zero_add]
  simpa using hv
def su1lt : List Lt := [(0, some 10, [3]), (1, some 11, [10]), (0, some 12, [1]), (4, some 13, [12]), (10, some 14, [11, 13]), (0, some 15, [2]), (56, some 16, [14, 15]), (127, some 7, [16])]
theorem su1reg : Reg (opsA (cLA (cRA (Tryz.f63.body.getD .skip)))) su1lt := ⟨by kernel_rfl, by kernel_rfl⟩
set_option maxHeartbeats 4000000 in
set_option maxRecDepth 100000 in
theorem csum_any (k P s c num : Nat) (pre : List Nat) (more : List (List Nat)) (av mv : Value) (w : World) (hT : Roots w) (ha : Row .u8 256 w av pre) (ta : Tidy av) (hm : Rows2 w mv more) (hn : num < 65536) (hl : pre.length + more.flatten.length ≤ 50000) (hml : more.length ≤ 1000) :
    Calls Tryz.prog 63 #[.agg #[.int .i64 (k : Int), .int .i64 (P : Int), .int .i64 (s : Int), .int .u64 (c : Int), av], .int .u64 (num : Int), mv] w fun e w' => ∃ v, e = .returned v ∧ Own 5 .u8 256 w' w.heap.size v (shaL (pre ++ (be2 num ++ more.flatten))) ∧ Below w.heap.size w w' := by
  obtain ⟨aa, ac, rfl, _⟩ := ha.opens rfl
  obtain ⟨us, ma, mc, rfl, _, _, tus, mcell⟩ := hm.texts
  have h2 := fun y => cbe2 num y (by omega)
  have hj := fun y v (r : Rows2 y v ([pre, be2 num] ++ more)) => join_any v _ y r (by simp only [List.flatten_append, List.flatten_cons, List.flatten_nil, List.length_append, be2_len, List.length_nil]; omega)
  have hfl : ([pre, be2 num] ++ more).flatten = pre ++ (be2 num ++ more.flatten) := by simp
  rw [hfl] at hj
  have hfll : (pre ++ (be2 num ++ more.flatten)).length ≤ 100000 := by rw [List.length_append, List.length_append, be2_len]; omega
  have hsum := fun y v (r : Row .u8 256 y v (pre ++ (be2 num ++ more.flatten))) (t : Tidy v) (hTy : Roots y) => sum_1 v _ y hTy r t hfll
  rw [show endS (wide 1) (ini 1) (pre ++ (be2 num ++ more.flatten)) (pre ++ (be2 num ++ more.flatten)).length (outn 1) = shaL (pre ++ (be2 num ++ more.flatten)) from rfl] at hsum
  generalize shaL (pre ++ (be2 num ++ more.flatten)) = SH at *
  generalize pre ++ (be2 num ++ more.flatten) = FL at *
  obtain ⟨L, hL⟩ : ∃ L, more.length = L := ⟨_, rfl⟩
  obtain ⟨A, hA⟩ : ∃ A, pre.length = A := ⟨_, rfl⟩
  rw [hL] at mcell ⊢
  rw [hA] at ha ta ⊢
  obtain ⟨i0, hi0, hz0, hz1, hz2⟩ := info_text
  obtain ⟨W0, hW0⟩ : ∃ W0 : World, W0 = w.alloc (.cells #[.int .i64 (k : Int), .int .i64 (P : Int), .int .i64 (s : Int), .int .u64 (c : Int), .slice aa A ac] 84) := ⟨_, rfl⟩
  have hb0 : Below w.heap.size w W0 := by rw [hW0]; exact keep_alloc _ _
  have hbox : W0.rangeAt w.heap.size 0 [.int .i64 (k : Int), .int .i64 (P : Int), .int .i64 (s : Int), .int .u64 (c : Int), .slice aa A ac] := by rw [hW0]; exact lf_range _ _ _ _ _ _ _
  go_enter Tryz.func63, Tryz.ntmps63
  go_wp2
  rw [← hW0]
  have hbd : Below W0.heap.size W0 W0.drew := (Below.refl _ _).drew
  refine at_begin (ops := opsA (cLA (cRA (Tryz.f63.body.getD .skip)))) (n := 8) (fun y => Below W0.heap.size W0 y) (by kernel_rfl) (by kernel_rfl) ?_
  refine at_takeD (i := 0) (m' := 1) (d := some 10) (v := .pointer (some ⟨w.heap.size, 4, none⟩)) su1reg rfl (by decide) rfl rfl (y_fieldG (wanted_free rfl) rfl rfl (fun w => by simp [go_sem])) hbd ?_
  simp only [Act.put, List.setIfInBounds_toArray, List.set_cons_zero, List.set_cons_succ]
  refine at_takeD (i := 1) (m' := 3) (d := some 11) (v := .slice aa A ac) su1reg rfl (by decide) rfl rfl (y_plainG (wanted_free rfl) rfl rfl Tryz.underlying24 rfl (fun _ h => range_below hbox h 4 _ rfl)) hbd ?_
  simp only [Act.put, List.setIfInBounds_toArray, List.set_cons_zero, List.set_cons_succ]
  refine at_takeD (i := 2) (m' := 7) (d := some 12) (v := .int .u64 (num : Int)) su1reg rfl (by decide) rfl rfl (y_moveG (wanted_free rfl) rfl rfl) hbd ?_
  simp only [Act.put, List.setIfInBounds_toArray, List.set_cons_zero, List.set_cons_succ]
  refine at_takeD (i := 5) (m' := 39) (d := some 15) (v := .slice ma L mc) su1reg rfl (by decide) rfl rfl (y_moveG (wanted_free rfl) rfl rfl) hbd ?_
  simp only [Act.put, List.setIfInBounds_toArray, List.set_cons_zero, List.set_cons_succ]
  refine at_one (i := 3) (m' := 47) su1reg (by decide) rfl ?_
  refine p_callG (args := #[.int .u64 (num : Int), .int .i64 2]) (d := some 13) rfl (wanted_free rfl) rfl (by simp only [List.map_toArray, List.map_cons, List.map_nil]; rfl) rfl Tryz.call31 ((h2 W0.drew).mono ?_)
  rintro e y5 ⟨bv, rfl, ob, g5⟩
  obtain ⟨ba, bc, rfl, _⟩ := ob.row.opens (be2_len num)
  have hb5 := keep_trans hbd g5
  have yb0 := hb5
  refine ⟨_, rfl, hb5, ?_⟩
  simp only [Act.put, List.setIfInBounds_toArray, List.set_cons_zero, List.set_cons_succ]
  refine at_one (i := 4) (m' := 63) su1reg (by decide) rfl ?_
  refine p_build2G (d := some 14) rfl (wanted_free rfl) rfl rfl rfl rfl Tryz.underlying46 hi0 hz1 hz0 ?_
  have hb6 := keep_trans hb5 (keep_alloc y5 (.cells #[.slice aa A ac, .slice ba 2 bc] 24))
  refine ⟨hb6, ?_⟩
  simp only [Act.put, List.setIfInBounds_toArray, List.set_cons_zero, List.set_cons_succ]
  refine at_one (i := 6) (m' := 127) su1reg (by decide) rfl ?_
  have hown := World.ownsRow_lit (base := W0.heap.size) (e := 24) (size := 1) y5 #[.slice aa A ac, .slice ba 2 bc] 2 yb0.size (by decide) rfl
  refine p_appT (d := some 16) rfl (wanted_free rfl) rfl _ _ 46 46 24 rfl Tryz.underlying46 W0.heap.size 24 i0 (.slice none 0 0) 24 Tryz.underlying46 hi0 hz0 hz1 hz2 rfl _ 2 _ rfl hown ma L mc us rfl (by rw [tus.1, hL]) (fun h => by obtain ⟨b, off, e, hc⟩ := mcell h; exact ⟨b, off, e, fun j u hj => keep_cell (hc j u hj) (keep_trans hb0 hb6)⟩) tus.cells (by unfold maxLen; omega) (by omega) hb6.size ?_
  intro VX WX hoX hgX
  have hb7 : Below W0.heap.size W0 WX := below_append' hb6 hb6.size hown hgX
  refine ⟨hb7, ?_⟩
  simp only [Act.put, List.setIfInBounds_toArray, List.set_cons_zero, List.set_cons_succ]
  refine at_takeD (i := 7) (m' := 255) (d := some 7) (v := VX) su1reg rfl (by decide) rfl rfl (y_assignG (wanted_free rfl) rfl rfl) hb7 ?_
  simp only [Act.put, List.setIfInBounds_toArray, List.set_cons_zero, List.set_cons_succ]
  refine at_done su1reg (by decide) ?_
  have kw := keep_trans hb0 hb7
  have rr : Rows2 WX VX ([pre, be2 num] ++ more) := by
    refine Texts.rows2 ((texts_grownN (texts_cons ((ha.below hb0).below yb0) ta (texts_cons ob.row ob.tidy (Texts.nil _))) (keep_alloc _ _) hgX (Nat.le_refl _)).append (texts_grownN ((tus.below hb0).below yb0) (keep_alloc _ _) hgX (Nat.le_refl _))) (B := W0.heap.size) ?_
    have e2 : ([pre, be2 num] ++ more).length = 2 + L := by rw [List.length_append, hL]; rfl
    rw [e2]
    exact hoX
  have hj1 := hj _ _ rr
  go_wp2_with (first
    | (go_at_call 23; refine hj1.mono ?_; rintro e w8 ⟨v8, rfl, o8, g8⟩)
    | (go_at_call 87; refine (hsum _ _ o8.row o8.tidy (hT.below (keep_trans kw g8))).mono ?_; rintro e w9 ⟨v9, rfl, o9, g9⟩)
    | fail)
  go_ret
  exact ⟨_, rfl, o9.mono (keep_trans kw g8).size, keep_trans (keep_trans kw g8) g9⟩
end Go.Proofs.YtefndnbaifiboaaGreatDoor
