/- Leaves that sign once: the document's chain, key, digest. -/
import Derived.Test.YtogiballdmgcpaaGreatDoorGEn64
import Derived.Test.YtogiballdmgcpaaGreatDoorPgF
import Derived.Test.YtogiballdmgcpaaGreatDoorHRes32
import Derived.Test.YtogiballdmgcpaaGreatDoorBase
import Derived.Deep.AppendLies
import Derived.Laws.AppendOwnNone
import Derived.ArgAppend
namespace Go.Proofs.YtogiballdmgcpaaGreatDoor
open Go.RowKit
set_option linter.unusedVariables false
set_option linter.unusedSimpArgs false

/-- where the chain stands -/
def ChL (w : World) (HH : List Nat → List Nat) (pre : List Nat) (i F N : Nat) (y : List Nat) (yv vy vj : Value) (wr : World) : Prop := ∃ k : Nat, k ≤ N ∧ vj = .int .i64 ((F + k : Nat) : Int) ∧ Row .u8 256 wr vy (chN HH pre i F k y) ∧ Tidy vy ∧ (New w.heap.size vy ∨ vy = yv) ∧ Below w.heap.size w wr
set_option maxHeartbeats 4000000 in
set_option maxRecDepth 100000 in
theorem rchain_any (id y : List Nat) (q i F N : Nat) (idv yv : Value) (w : World) (hi : Row .u8 256 w idv id) (ti : Tidy idv) (hs : Row .u8 256 w yv y) (ts : Tidy yv) (hq : q < 4294967296) (hi2 : i < 65536) (hF : F + N ≤ 256) (hy32 : y.length = 32) (hl : id.length ≤ 10000) :
    Calls Tryz.prog 87 #[idv, .int .u32 (q : Int), .int .i64 (i : Int), .int .i64 (F : Int), .int .i64 ((F + N : Nat) : Int), yv] w fun e w' => ∃ v, e = .returned v ∧ Row .u8 256 w' v (chN shaL (preL id q) i F N y) ∧ Tidy v ∧ (New w.heap.size v ∨ v = yv) ∧ Below w.heap.size w w' := by
  obtain ⟨ia, ic, rfl, _⟩ := hi.opens rfl
  have u_q : IntKind.u64.wrap (q : Int) = (q : Int) := by rw [IntKind.wrap_u64]; omega
  have u_i : IntKind.u64.wrap (i : Int) = (i : Int) := by rw [IntKind.wrap_u64]; omega
  have h4 := fun y => rbe4 q y (by omega)
  have h2 := fun y => rbe2 i y (by omega)
  have hH := fun (b : Nat) (z : List Nat) (hz : z.length = 32) y lv (r : Rows2 y lv [id, be4 q, be2 i, [b], z]) => rH_any lv _ y r (by simp only [List.flatten_cons, List.flatten_nil, List.append_nil, List.length_append, be2_len, be4_len, List.length_singleton]; omega)
  have hfl : ∀ (b : Nat) (z : List Nat), [id, be4 q, be2 i, [b], z].flatten = preL id q ++ (be2 i ++ ([b] ++ z)) := fun b z => by simp [preL]
  simp only [hfl] at hH
  have hlen : ∀ k, (chN shaL (preL id q) i F k y).length = 32 := chN_len shaL_len i F y hy32
  obtain ⟨T, hT⟩ : ∃ T : Nat, T = F + N := ⟨_, rfl⟩
  rw [← hT]
  generalize shaL = HH at *
  have h0 : ChL w HH (preL id q) i F N y yv yv (.int .i64 (F : Int)) w := ⟨0, Nat.zero_le _, rfl, hs, ts, .inr rfl, Below.refl _ _⟩
  have H0 := hide h0
  have HI := hide (And.intro hi (And.intro ti (And.intro hlen (And.intro hT hF))))
  clear h0 hi ti hlen hfl hs ts hT hF
  go_enter Tryz.func87, Tryz.ntmps87
  go_wp2
  go_loopw [5, 13] (fun vy vj wr => ChL w HH (preL id q) i F N y yv vy vj wr) (fun _ vj _ => T - (intOf vj).toNat)
  case atStart => exact H0.out
  case round =>
    obtain ⟨k, hk, rfl, rY, tY, nY, hbr⟩ := hrel
    obtain ⟨hi, ti, hlen, hT, hF⟩ := HI.out
    clear H0
    rename World => wr
    by_cases hlt : k < N
    · obtain ⟨j, hj⟩ : ∃ j : Nat, j = F + k := ⟨_, rfl⟩
      rw [← hj]
      have hjT : (j : Int) < (T : Int) := by omega
      have u_j : IntKind.u8.wrap (j : Int) = (j : Int) := by rw [IntKind.wrap_u8]; omega
      obtain ⟨Q, hQ⟩ : ∃ x : Nat, x = j + 1 := ⟨_, rfl⟩
      have e_Q : (j : Int) + 1 = (Q : Int) := by omega
      have s_Q : IntKind.i64.wrap (Q : Int) = (Q : Int) := by rw [IntKind.wrap_i64]; omega
      have hj8 : j < 256 := by omega
      have hch : HH (preL id q ++ (be2 i ++ ([j] ++ chN HH (preL id q) i F k y))) = chN HH (preL id q) i F (k + 1) y := by rw [hj]; rfl
      have hHk := fun yy lv r => hH j (chN HH (preL id q) i F k y) (hlen k) yy lv r
      rw [hch] at hHk
      have hir := hi.below hbr
      obtain ⟨ya, yc, rfl, _⟩ := rY.opens (hlen k)
      have HK := hide (And.intro hj (And.intro hQ (And.intro hT (And.intro hbr (And.intro hlt (And.intro hj8 (And.intro hlen hF)))))))
      have hb1y := one_byte
      clear hj hQ hT hbr hlt hch hlen hF hi hH
      go_wp2_with (first
        | (go_at_call_of 24 (Value.int .i64 4); refine (h4 _).mono ?_; rintro e w1 ⟨v1, rfl, o1, hb1⟩; obtain ⟨a1, c1, rfl⟩ := o1.row.form)
        | (go_at_call_of 24 (Value.int .i64 2); refine (h2 _).mono ?_; rintro e w2 ⟨v2, rfl, o2, hb2⟩; obtain ⟨a2, c2, rfl⟩ := o2.row.form; have hb12 := keep_trans hb1 hb2; have hb13 := keep_trans hb12 (keep_alloc w2 (.cells #[.int .u8 (j : Int)] 5)); have hx := one_byte w2 j hj8; have hT := hHk _ _ (rows_litL (B := w2.heap.size + 1) (k := 5) (texts_cons (hir.below hb13) ti (texts_cons (o1.row.below (keep_trans hb2 (keep_alloc _ _))) o1.tidy (texts_cons (o2.row.below (keep_alloc _ _)) o2.tidy (texts_cons hx.1 hx.2 (texts_cons (rY.below hb13) tY (Texts.nil _)))))) (by simp) rfl (by decide)))
        | (go_at_call 54; refine hT.mono ?_; rintro e w3 ⟨v3, rfl, r3, n3, hb3⟩)
        | fail)
      obtain ⟨hj, hQ, hTT, hbr, hlt, hj8, hlen, hF⟩ := HK.out
      have hbw := keep_trans (keep_trans hb13 (keep_alloc _ _)) hb3
      exact ⟨⟨k + 1, by omega, vint (by omega), r3, new_ntidy r3 (by rw [hlen]; decide), .inl (n3.mono (Nat.le_trans hbr.size (keep_trans hb13 (keep_alloc _ _)).size)), hbr.trans (hbw.mono hbr.size)⟩, by simp [intOf]; omega⟩
    · obtain rfl : k = N := by omega
      have hge : ¬ (((F + k : Nat) : Int) < (T : Int)) := by omega
      obtain ⟨j, hj⟩ : ∃ j : Nat, j = F + k := ⟨_, rfl⟩
      rw [← hj] at hge ⊢
      obtain ⟨ya, yc, rfl, _⟩ := rY.opens (hlen k)
      have HK := hide (And.intro hj (And.intro hT (And.intro hbr rY)))
      clear hj hT hbr hlen hF hi hH
      go_wp2
      go_ret
      exact ⟨_, rfl, HK.out.2.2.2, tY, nY, HK.out.2.2.1⟩
end Go.Proofs.YtogiballdmgcpaaGreatDoor

/- Leaves that sign once: the document's key, digest, wrong, Size. -/
namespace Go.Proofs.YtogiballdmgcpaaGreatDoor
open Go.RowKit
set_option linter.unusedVariables false
set_option linter.unusedSimpArgs false

set_option maxHeartbeats 4000000 in
set_option maxRecDepth 100000 in
theorem rkey_any (id : List Nat) (ends : List (List Nat)) (q : Nat) (idv ev : Value) (w : World) (hi : Row .u8 256 w idv id) (ti : Tidy idv) (he : Rows2 w ev ends) (hq : q < 4294967296) (hl : id.length ≤ 10000) (hel : ends.flatten.length ≤ 50000) :
    Calls Tryz.prog 103 #[idv, .int .u32 (q : Int), ev] w fun e w' => ∃ v, e = .returned v ∧ Row .u8 256 w' v (keyH shaL (preL id q) ends) ∧ New w.heap.size v ∧ Below w.heap.size w w' := by
  obtain ⟨ia, ic, rfl, _⟩ := hi.opens rfl
  have u_q : IntKind.u64.wrap (q : Int) = (q : Int) := by rw [IntKind.wrap_u64]; omega
  have h4 := fun y => rbe4 q y (by omega)
  have h2 := fun y => rbe2 32896 y (by decide)
  have hj := fun y (h : Below w.heap.size w y) => rjoin_any ev ends y (he.below h) (by omega)
  have hfl : [id, be4 q, be2 32896, ends.flatten].flatten = preL id q ++ (be2 32896 ++ ends.flatten) := by simp [preL]
  have hH := fun y lv (r : Rows2 y lv [id, be4 q, be2 32896, ends.flatten]) => rH_any lv _ y r (by rw [hfl]; simp only [List.length_append, len_pre, be2_len]; omega)
  rw [hfl] at hH
  unfold keyH
  generalize shaL = HH at *
  clear hfl hel
  generalize ends.flatten = E at *
  go_enter Tryz.func103, Tryz.ntmps103
  go_wp2_with (first
    | (go_at_call_of 24 (Value.int .i64 4); refine (h4 _).mono ?_; rintro e w1 ⟨v1, rfl, o1, hb1⟩; obtain ⟨a1, c1, rfl⟩ := o1.row.form)
    | (go_at_call_of 24 (Value.int .i64 2); refine (h2 _).mono ?_; rintro e w2 ⟨v2, rfl, o2, hb2⟩; obtain ⟨a2, c2, rfl⟩ := o2.row.form; have hb12 := keep_trans hb1 hb2)
    | (go_at_call 31; refine (hj _ hb12).mono ?_; rintro e w3 ⟨v3, rfl, o3, hb3⟩; obtain ⟨a3, c3, rfl⟩ := o3.row.form; have hb13 := keep_trans hb12 hb3; have hT := hH _ _ (rows_litL (B := w3.heap.size) (k := 4) (texts_cons (hi.below hb13) ti (texts_cons (o1.row.below (keep_trans hb2 hb3)) o1.tidy (texts_cons (o2.row.below hb3) o2.tidy (texts_cons o3.row o3.tidy (Texts.nil _))))) rfl rfl (by decide)))
    | (go_at_call 54; refine hT.mono ?_; rintro e w4 ⟨v4, rfl, r4, n4, hb4⟩)
    | fail)
  go_ret
  exact ⟨_, rfl, r4, n4.mono (keep_trans hb13 (keep_alloc _ _)).size, keep_trans (keep_trans hb13 (keep_alloc _ _)) hb4⟩
set_option maxHeartbeats 4000000 in
set_option maxRecDepth 100000 in
theorem rdgst_any (id c text : List Nat) (q : Nat) (idv cv tv : Value) (w : World) (hi : Row .u8 256 w idv id) (ti : Tidy idv) (hc : Row .u8 256 w cv c) (tc : Tidy cv) (ht : Row .u8 256 w tv text) (tt : Tidy tv) (hq : q < 4294967296) (hl : id.length + c.length + text.length ≤ 50000) :
    Calls Tryz.prog 86 #[idv, .int .u32 (q : Int), cv, tv] w fun e w' => ∃ v, e = .returned v ∧ Row .u8 256 w' v (digH shaL (preL id q) c text) ∧ New w.heap.size v ∧ Below w.heap.size w w' := by
  obtain ⟨ia, ic, rfl, _⟩ := hi.opens rfl
  obtain ⟨ca, cc, rfl, _⟩ := hc.opens rfl
  obtain ⟨ta, tc', rfl, _⟩ := ht.opens rfl
  have u_q : IntKind.u64.wrap (q : Int) = (q : Int) := by rw [IntKind.wrap_u64]; omega
  have h4 := fun y => rbe4 q y (by omega)
  have h2 := fun y => rbe2 33153 y (by decide)
  have hfl : [id, be4 q, be2 33153, c, text].flatten = preL id q ++ (be2 33153 ++ (c ++ text)) := by simp [preL]
  have hH := fun y lv (r : Rows2 y lv [id, be4 q, be2 33153, c, text]) => rH_any lv _ y r (by rw [hfl]; simp only [List.length_append, len_pre, be2_len]; omega)
  rw [hfl] at hH
  unfold digH
  generalize shaL = HH at *
  clear hfl
  go_enter Tryz.func86, Tryz.ntmps86
  go_wp2_with (first
    | (go_at_call_of 24 (Value.int .i64 4); refine (h4 _).mono ?_; rintro e w1 ⟨v1, rfl, o1, hb1⟩; obtain ⟨a1, c1, rfl⟩ := o1.row.form)
    | (go_at_call_of 24 (Value.int .i64 2); refine (h2 _).mono ?_; rintro e w2 ⟨v2, rfl, o2, hb2⟩; obtain ⟨a2, c2, rfl⟩ := o2.row.form; have hb12 := keep_trans hb1 hb2; have hT := hH _ _ (rows_litL (B := w2.heap.size) (k := 5) (texts_cons (hi.below hb12) ti (texts_cons (o1.row.below hb2) o1.tidy (texts_cons o2.row o2.tidy (texts_cons (hc.below hb12) tc (texts_cons (ht.below hb12) tt (Texts.nil _)))))) rfl rfl (by decide)))
    | (go_at_call 54; refine hT.mono ?_; rintro e w4 ⟨v4, rfl, r4, n4, hb4⟩)
    | fail)
  go_ret
  exact ⟨_, rfl, r4, n4.mono (keep_trans hb12 (keep_alloc _ _)).size, keep_trans (keep_trans hb12 (keep_alloc _ _)) hb4⟩
theorem Kd.pos {w n m s c : Nat} (h : Kd w n m s c) : 1 ≤ n + m ∧ n + m ≤ 265 ∧ w ≤ 8 ∧ 1 ≤ w ∧ n * w = 256 ∧ c ≤ 4 ∧ s ≤ 7 := by cases h <;> decide
set_option maxHeartbeats 4000000 in
set_option maxRecDepth 100000 in
theorem rsize_no (x : Int) (w : World) (h : NoK x) : Calls Tryz.prog 67 #[.int .i64 x] w fun e w' => e = .returned (.int .i64 0) ∧ w' = w := by
  have hk := fun y => rkind_no x y h
  clear h
  go_enter Tryz.func67, Tryz.ntmps67
  go_wp2_with (first | (go_at_call 77; refine (hk _).mono ?_; rintro e yy ⟨rfl, hy⟩; obtain rfl := hy.symm) | fail)
  go_ret
  exact ⟨rfl, rfl⟩
set_option maxHeartbeats 4000000 in
set_option maxRecDepth 100000 in
theorem rsize_ok {k n m s c : Nat} (w : World) (h : Kd k n m s c) : Calls Tryz.prog 67 #[.int .i64 (k : Int)] w fun e w' => e = .returned (.int .i64 ((36 + 32 * (n + m) : Nat) : Int)) ∧ w' = w := by
  have hk := fun y => rkind_ok y h
  obtain ⟨P, hP⟩ : ∃ P : Nat, P = n + m := ⟨_, rfl⟩
  rw [← hP] at hk ⊢
  have hp := h.pos
  have hp0 : ¬ ((P : Int) = 0) := by omega
  obtain ⟨A, hA⟩ : ∃ A : Nat, A = 32 * P := ⟨_, rfl⟩
  obtain ⟨B, hB⟩ : ∃ B : Nat, B = 36 + A := ⟨_, rfl⟩
  have e_A : (32 : Int) * (P : Int) = (A : Int) := by omega
  have s_A : IntKind.i64.wrap (A : Int) = (A : Int) := by rw [IntKind.wrap_i64]; omega
  have e_B : (36 : Int) + (A : Int) = (B : Int) := by omega
  have s_B : IntKind.i64.wrap (B : Int) = (B : Int) := by rw [IntKind.wrap_i64]; omega
  rw [← hA, ← hB]
  clear h hP hA hB hp
  go_enter Tryz.func67, Tryz.ntmps67
  go_wp2_with (first | (go_at_call 77; refine (hk _).mono ?_; rintro e yy ⟨rfl, hy⟩; obtain rfl := hy.symm) | fail)
  go_ret
  exact ⟨rfl, rfl⟩
end Go.Proofs.YtogiballdmgcpaaGreatDoor

/- Trees of leaves that sign once: the document's Code, height, digit, over, leafSum. -/
namespace Go.Proofs.YtogiballdmgcpaaGreatDoor
open Go.RowKit
set_option linter.unusedVariables false
set_option linter.unusedSimpArgs false

/-- the first number from f on that is meant, of k; 0: none is -/
def findN (P : Nat → Bool) : Nat → Nat → Nat
  | _, 0 => 0
  | f, k + 1 => if P f = true then f else findN P (f + 1) k
def hgtL (c : Nat) : Nat := findN (fun h : Nat => decide (lmCode (h : Int) = c ∧ c ≠ 0)) 1 25
def kdC (w : Nat) : Nat := if w = 1 then 1 else if w = 2 then 2 else if w = 4 then 3 else if w = 8 then 4 else 0
def dgtL (c : Nat) : Nat := findN (fun w => decide (kdC w = c ∧ c ≠ 0)) 1 8
set_option maxHeartbeats 4000000 in
set_option maxRecDepth 100000 in
theorem rcode_any (h : Int) (w : World) : Calls Tryz.prog 56 #[.int .i64 h] w fun e w' => e = .returned (.int .u64 (lmCode h : Nat)) ∧ w' = w := by
  by_cases h1 : 1 ≤ h
  · by_cases h4 : h ≤ 4
    · obtain ⟨n, rfl⟩ : ∃ n : Nat, h = (n : Int) := ⟨h.toNat, by omega⟩
      obtain ⟨C, hC⟩ : ∃ C : Nat, C = 3758096384 + n := ⟨_, rfl⟩
      have e0 : lmCode (n : Int) = C := by unfold lmCode; rw [if_pos ⟨h1, h4⟩, hC]; rfl
      rw [e0]
      have u_n : IntKind.u64.wrap (n : Int) = (n : Int) := by rw [IntKind.wrap_u64]; omega
      have e_C : (3758096384 : Int) + (n : Int) = (C : Int) := by omega
      have u_C : IntKind.u64.wrap (C : Int) = (C : Int) := by rw [IntKind.wrap_u64]; omega
      clear hC e0
      go_enter Tryz.func56, Tryz.ntmps56
      go_wp2
      go_ret
      exact ⟨rfl, rfl⟩
    · have h5 : 5 ≤ h := by omega
      by_cases h25 : h ≤ 25
      · by_cases hm : h % 5 = 0
        · have hk : h = 5 ∨ h = 10 ∨ h = 15 ∨ h = 20 ∨ h = 25 := by omega
          clear h1 h4 h5 h25 hm
          rcases hk with hk | hk | hk | hk | hk <;> subst hk
          · go_enter Tryz.func56, Tryz.ntmps56
            go_wp2
            go_ret
            exact ⟨rfl, rfl⟩
          · go_enter Tryz.func56, Tryz.ntmps56
            go_wp2
            go_ret
            exact ⟨rfl, rfl⟩
          · go_enter Tryz.func56, Tryz.ntmps56
            go_wp2
            go_ret
            exact ⟨rfl, rfl⟩
          · go_enter Tryz.func56, Tryz.ntmps56
            go_wp2
            go_ret
            exact ⟨rfl, rfl⟩
          · go_enter Tryz.func56, Tryz.ntmps56
            go_wp2
            go_ret
            exact ⟨rfl, rfl⟩
        · have e0 : lmCode h = 0 := by unfold lmCode; rw [if_neg (by omega), if_neg (by omega)]
          rw [e0]
          have hb : (h % 5 == 0) = false := by simp [hm]
          have ht : ¬ h.tmod 5 = 0 := by rw [Int.tmod_eq_emod_of_nonneg (by omega)]; exact hm
          clear e0
          go_enter Tryz.func56, Tryz.ntmps56
          go_wp2
          go_ret
          exact ⟨rfl, rfl⟩
      · have e0 : lmCode h = 0 := by unfold lmCode; rw [if_neg (by omega), if_neg (by omega)]
        rw [e0]
        clear e0
        go_enter Tryz.func56, Tryz.ntmps56
        go_wp2
        go_ret
        exact ⟨rfl, rfl⟩
  · have e0 : lmCode h = 0 := by unfold lmCode; rw [if_neg (by omega), if_neg (by omega)]
    rw [e0]
    have h5 : ¬ 5 ≤ h := by omega
    clear e0
    go_enter Tryz.func56, Tryz.ntmps56
    go_wp2
    go_ret
    exact ⟨rfl, rfl⟩
def FnL (P : Nat → Bool) (T k0 : Nat) (vi : Value) (w wr : World) : Prop := ∃ f k : Nat, f + k = T ∧ 1 ≤ f ∧ vi = .int .i64 (f : Int) ∧ findN P f k = k0 ∧ wr = w
set_option maxHeartbeats 4000000 in
set_option maxRecDepth 100000 in
theorem rheight_any (c : Nat) (w : World) (hc : c < 18446744073709551616) : Calls Tryz.prog 68 #[.int .u64 (c : Int)] w fun e w' => e = .returned (.int .i64 (hgtL c : Nat)) ∧ w' = w := by
  obtain ⟨P, hP⟩ : ∃ P : Nat → Bool, P = fun h : Nat => decide (lmCode (h : Int) = c ∧ c ≠ 0) := ⟨_, rfl⟩
  have hr : hgtL c = findN P 1 25 := by unfold hgtL; rw [hP]
  rw [hr]
  obtain ⟨R, hR⟩ : ∃ R, R = findN P 1 25 := ⟨_, rfl⟩
  rw [← hR]
  have hcd := fun h y => rcode_any h y
  have H0 : Hid (FnL P 26 R (.int .i64 1) w w) := hide ⟨1, 25, rfl, Nat.le_refl _, rfl, hR.symm, rfl⟩
  have HP := hide hP
  clear hP hr hR
  go_enter Tryz.func68, Tryz.ntmps68
  go_wp2
  go_loopw [3] (fun vi wr => FnL P 26 R vi w wr) (fun vi _ => 26 - (intOf vi).toNat)
  case atStart => exact H0.out
  case round =>
    obtain ⟨f, k, hfk, hf1, rfl, hfn, rfl⟩ := hrel
    clear H0
    by_cases hlt : f ≤ 25
    · obtain ⟨k', rfl⟩ : ∃ k', k = k' + 1 := ⟨k - 1, by omega⟩
      have hle : (f : Int) ≤ 25 := by omega
      have hst : (if P f = true then f else findN P (f + 1) k') = R := hfn
      obtain ⟨X, hX⟩ : ∃ X : Nat, X = lmCode (f : Int) := ⟨_, rfl⟩
      have hcf := hcd (f : Int)
      rw [← hX] at hcf
      have hPf : P f = decide (X = c ∧ c ≠ 0) := by rw [HP.out, hX]
      obtain ⟨I, hI⟩ : ∃ I : Nat, I = f + 1 := ⟨_, rfl⟩
      have e_I : (f : Int) + 1 = (I : Int) := by omega
      have s_I : IntKind.i64.wrap (I : Int) = (I : Int) := by rw [IntKind.wrap_i64]; omega
      have HK := hide (And.intro hst (And.intro hX (And.intro hPf (And.intro hI (And.intro hfk hlt)))))
      by_cases hq : X = c
      · by_cases hz : c = 0
        · have hq' : ((X : Int) == (c : Int)) = true := by simp [hq]
          have hzb : ((c : Int) != 0) = false := by simp [hz]
          have HQ := hide (And.intro hq hz)
          clear hst hX hPf hI hfn hfk hlt hq hz
          go_wp2_with (first | (go_at_call 56; refine (hcf _).mono ?_; rintro e yy ⟨rfl, hy⟩; obtain rfl := hy.symm) | fail)
          obtain ⟨hst, hX, hPf, hI, hfk, hlt⟩ := HK.out
          obtain ⟨hq, hz⟩ := HQ.out
          go_roundw
          case rel => exact ⟨f + 1, k', by omega, by omega, vint (by omega), by rw [← hst, if_neg (by rw [hPf]; simp [hz])], rfl⟩
          case measure => simp [intOf]; omega
        · have hqi : (X : Int) = (c : Int) := by omega
          have hzi : ¬ (c : Int) = 0 := by omega
          have HQ := hide (And.intro hq hz)
          clear hst hX hPf hI hfn hfk hlt hq hz
          go_wp2_with (first | (go_at_call 56; refine (hcf _).mono ?_; rintro e yy ⟨rfl, hy⟩; obtain rfl := hy.symm) | fail)
          go_ret
          obtain ⟨hst, hX, hPf, hI, hfk, hlt⟩ := HK.out
          obtain ⟨hq, hz⟩ := HQ.out
          exact ⟨by rw [← hst, if_pos (by rw [hPf]; simp [hq, hz])]; rfl, rfl⟩
      · have hqi : ¬ (X : Int) = (c : Int) := by omega
        have HQ := hide hq
        clear hst hX hPf hI hfn hfk hlt hq
        go_wp2_with (first | (go_at_call 56; refine (hcf _).mono ?_; rintro e yy ⟨rfl, hy⟩; obtain rfl := hy.symm) | fail)
        obtain ⟨hst, hX, hPf, hI, hfk, hlt⟩ := HK.out
        go_roundw
        case rel => exact ⟨f + 1, k', by omega, by omega, vint (by omega), by rw [← hst, if_neg (by rw [hPf]; simp [HQ.out])], rfl⟩
        case measure => simp [intOf]; omega
    · obtain rfl : k = 0 := by omega
      have hR0 : R = 0 := hfn.symm
      have hge : ¬ (f : Int) ≤ 25 := by omega
      rw [hR0]
      clear hfn hfk hlt
      go_wp2
      go_ret
      exact ⟨rfl, rfl⟩
theorem rkind_any (f : Nat) (y : World) : ∃ a b : Int, Calls Tryz.prog 77 #[.int .i64 (f : Int)] y fun e y' => e = .returned (.tuple #[.int .i64 a, .int .i64 b, .int .u64 (kdC f : Nat)]) ∧ y' = y := by
  rcases kd_or (f : Int) with h | ⟨w, n, m, s, c, e, h⟩
  · refine ⟨0, 0, ?_⟩
    have e0 : kdC f = 0 := by
      obtain ⟨h1, h2, h4, h8⟩ := h
      unfold kdC
      rw [if_neg (by omega), if_neg (by omega), if_neg (by omega), if_neg (by omega)]
    rw [e0]
    exact rkind_no _ y h
  · refine ⟨((n + m : Nat) : Int), (s : Int), ?_⟩
    have e1 : f = w := by omega
    have e0 : kdC f = c := by rw [e1]; cases h <;> rfl
    rw [e0, e]
    exact rkind_ok y h
set_option maxHeartbeats 4000000 in
set_option maxRecDepth 100000 in
theorem rdigit_any (c : Nat) (w : World) (hc : c < 18446744073709551616) : Calls Tryz.prog 66 #[.int .u64 (c : Int)] w fun e w' => e = .returned (.int .i64 (dgtL c : Nat)) ∧ w' = w := by
  obtain ⟨P, hP⟩ : ∃ P : Nat → Bool, P = fun h => decide (kdC h = c ∧ c ≠ 0) := ⟨_, rfl⟩
  have hr : dgtL c = findN P 1 8 := by unfold dgtL; rw [hP]
  rw [hr]
  obtain ⟨R, hR⟩ : ∃ R, R = findN P 1 8 := ⟨_, rfl⟩
  rw [← hR]
  have hcd := fun h y => rkind_any h y
  have H0 : Hid (FnL P 9 R (.int .i64 1) w w) := hide ⟨1, 8, rfl, Nat.le_refl _, rfl, hR.symm, rfl⟩
  have HP := hide hP
  clear hP hr hR
  go_enter Tryz.func66, Tryz.ntmps66
  go_wp2
  go_loopw [3] (fun vi wr => FnL P 9 R vi w wr) (fun vi _ => 9 - (intOf vi).toNat)
  case atStart => exact H0.out
  case round =>
    obtain ⟨f, k, hfk, hf1, rfl, hfn, rfl⟩ := hrel
    clear H0
    by_cases hlt : f ≤ 8
    · obtain ⟨k', rfl⟩ : ∃ k', k = k' + 1 := ⟨k - 1, by omega⟩
      have hle : (f : Int) ≤ 8 := by omega
      have hst : (if P f = true then f else findN P (f + 1) k') = R := hfn
      obtain ⟨X, hX⟩ : ∃ X : Nat, X = kdC f := ⟨_, rfl⟩
      obtain ⟨ka, kb, hcf⟩ := hcd f wr
      rw [← hX] at hcf
      have hPf : P f = decide (X = c ∧ c ≠ 0) := by rw [HP.out, hX]
      obtain ⟨I, hI⟩ : ∃ I : Nat, I = f + 1 := ⟨_, rfl⟩
      have e_I : (f : Int) + 1 = (I : Int) := by omega
      have s_I : IntKind.i64.wrap (I : Int) = (I : Int) := by rw [IntKind.wrap_i64]; omega
      have HK := hide (And.intro hst (And.intro hX (And.intro hPf (And.intro hI (And.intro hfk hlt)))))
      by_cases hq : X = c
      · subst hq
        by_cases hz : X = 0
        · have hzb : ((X : Int) != 0) = false := by simp [hz]
          have HQ := hide hz
          clear hst hX hPf hI hfn hfk hlt hz
          go_wp2_with (first | (go_at_call 77; refine hcf.mono ?_; rintro e yy ⟨rfl, hy⟩; obtain rfl := hy.symm) | fail)
          obtain ⟨hst, hX, hPf, hI, hfk, hlt⟩ := HK.out
          go_roundw
          case rel => exact ⟨f + 1, k', by omega, by omega, vint (by omega), by rw [← hst, if_neg (by rw [hPf]; simp [HQ.out])], rfl⟩
          case measure => simp [intOf]; omega
        · have hzi : ¬ (X : Int) = 0 := by omega
          have HQ := hide hz
          clear hst hX hPf hI hfn hfk hlt hz
          go_wp2_with (first | (go_at_call 77; refine hcf.mono ?_; rintro e yy ⟨rfl, hy⟩; obtain rfl := hy.symm) | fail)
          go_ret
          obtain ⟨hst, hX, hPf, hI, hfk, hlt⟩ := HK.out
          exact ⟨by rw [← hst, if_pos (by rw [hPf]; simp [HQ.out])]; rfl, rfl⟩
      · have hqi : ¬ (X : Int) = (c : Int) := by omega
        have HQ := hide hq
        clear hst hX hPf hI hfn hfk hlt hq
        go_wp2_with (first | (go_at_call 77; refine hcf.mono ?_; rintro e yy ⟨rfl, hy⟩; obtain rfl := hy.symm) | fail)
        obtain ⟨hst, hX, hPf, hI, hfk, hlt⟩ := HK.out
        go_roundw
        case rel => exact ⟨f + 1, k', by omega, by omega, vint (by omega), by rw [← hst, if_neg (by rw [hPf]; simp [HQ.out])], rfl⟩
        case measure => simp [intOf]; omega
    · obtain rfl : k = 0 := by omega
      have hR0 : R = 0 := hfn.symm
      have hge : ¬ (f : Int) ≤ 8 := by omega
      rw [hR0]
      clear hfn hfk hlt
      go_wp2
      go_ret
      exact ⟨rfl, rfl⟩
end Go.Proofs.YtogiballdmgcpaaGreatDoor

/- append of whatever row, apart from mac's and aes'. -/
namespace Go.Proofs.YtogiballdmgcpaaGreatDoor
open Go.RowKit
set_option linter.unusedVariables false
set_option linter.unusedSimpArgs false

theorem tidy_atA (x : Addr) (n c : Nat) : Tidy (.slice (some x) n c) := fun n c he => by simp at he
theorem own_belowA {w w' : World} {base : Nat} {e : TypeId} {size : Nat} {v : Value} {n : Nat} {xs : List Value} (h : w.ownsRow base e size v n xs) (hb : Below w.heap.size w w') : w'.ownsRow base e size v n xs := by
  obtain ⟨h1, h2⟩ := h
  refine ⟨h1, ?_⟩
  rcases h2 with h2 | ⟨g, cap, cur, rfl, h3, h4, h5⟩
  · exact .inl h2
  · refine .inr ⟨g, cap, cur, rfl, h3, ?_, h5⟩
    rw [hb.block g (by
      rcases Nat.lt_or_ge g w.heap.size with hlt | hge
      · exact hlt
      · rw [Array.getElem?_eq_none hge] at h4; cases h4)]
    exact h4
theorem row_tidyA {k : IntKind} {m : Nat} {w : World} {v : Value} {l : List Nat} (h : Row k m w v l) (hl : 0 < l.length) : Tidy v := by
  obtain ⟨a, c, rfl, _, _, h3, _⟩ := h
  obtain ⟨b, off, rfl, _⟩ := h3 hl
  exact tidy_atA _ _ _
/-- append of whatever row onto one of the call's own -/
theorem wpList_appA {w : World} {ops : Array Oper} {rest : List Oper} {o : Oper} {a : Act} {Q : Exit → Act → World → Prop} (hgd : o.guard = none) (s x : Operand) (ho : o.op = .call { callee := .builtin .append, args := #[s, x], argTypes := #[23, 23] })
    (base : Nat) (v bv : Value) (n : Nat) (l b : List Nat) (hs : a.eval s = v) (hown : w.ownsRow base 5 1 v n (vals .u8 l)) (hx : a.eval x = bv) (rb : Row .u8 256 w bv b) (tb : Tidy bv) (hn : n ≤ 1000000) (hb : b.length ≤ 1000000) (hbase : base ≤ w.heap.size)
    (h : ∀ v' w', w'.ownsRow base 5 1 v' (n + b.length) (vals .u8 (l ++ b)) → w.grownBy w' v.ownBlock → wpList Tryz.prog ops Q rest (a.put o.dst v') w') : wpList Tryz.prog ops Q (o :: rest) a w := by
  obtain ⟨i0, hi, hz0, hz1, hz2⟩ := info_parts Tryz.info5
  obtain ⟨ba, bc, rfl, h1, h2, h3, h4⟩ := rb
  cases ba with
  | none =>
    obtain ⟨h0, rfl⟩ := tb _ _ rfl
    obtain rfl := List.eq_nil_of_length_eq_zero h0
    refine wpList_append_own_none hgd s x 23 ho base 5 i0 1 Tryz.underlying23 hi _ _ _ hs hown hx ?_
    exact h v w (by rw [List.append_nil]; exact hown) ⟨rfl, rfl, rfl, Nat.le_refl _, fun _ _ _ => rfl⟩
  | some y =>
    refine wpList_append_own _ hgd s x 23 ho base 5 i0 (.int .u8 0) 1 1 Tryz.underlying23 hi hz0 hz1 hz2 rfl (by decide) _ _ _ hs hown y b.length bc (vals .u8 b) hx (by rw [vals_length, Nat.mul_one]) (cells_news h3) (vals_one _ _) (by unfold maxLen; omega) (by omega) hbase ?_
    intro v' w3 how' hgrow _
    exact h v' w3 (by rw [vals_append]; exact how') hgrow
end Go.Proofs.YtogiballdmgcpaaGreatDoor

/- Trees of leaves that sign once: the document's over, leafSum, Fit, Size, wrong, head. -/
namespace Go.Proofs.YtogiballdmgcpaaGreatDoor
open Go.RowKit
set_option linter.unusedVariables false
set_option linter.unusedSimpArgs false

/-- the sums of a knot and of a leaf -/
def ovL (id : List Nat) (n : Nat) (a b : List Nat) : List Nat := shaL (id ++ (be4 n ++ (be2 33667 ++ (a ++ b))))
def lfS (id : List Nat) (n : Nat) (k : List Nat) : List Nat := shaL (id ++ (be4 n ++ (be2 33410 ++ k)))
set_option maxHeartbeats 4000000 in
set_option maxRecDepth 100000 in
theorem rover_any (id a b : List Nat) (n : Nat) (idv av bv : Value) (w : World) (hi : Row .u8 256 w idv id) (ti : Tidy idv) (ha : Row .u8 256 w av a) (ta : Tidy av) (hb : Row .u8 256 w bv b) (tb : Tidy bv) (hn : n < 18446744073709551616) (hl : id.length + a.length + b.length ≤ 50000) :
    Calls Tryz.prog 71 #[idv, .int .u64 (n : Int), av, bv] w fun e w' => ∃ v, e = .returned v ∧ Row .u8 256 w' v (ovL id n a b) ∧ New w.heap.size v ∧ Below w.heap.size w w' := by
  obtain ⟨ia, ic, rfl, _⟩ := hi.opens rfl
  obtain ⟨aa, ac, rfl, _⟩ := ha.opens rfl
  obtain ⟨ba, bc, rfl, _⟩ := hb.opens rfl
  have h4 := fun y => rbe4 n y hn
  have h2 := fun y => rbe2 33667 y (by decide)
  have hfl : [id, be4 n, be2 33667, a, b].flatten = id ++ (be4 n ++ (be2 33667 ++ (a ++ b))) := by simp
  have hH := fun y lv (r : Rows2 y lv [id, be4 n, be2 33667, a, b]) => rH_any lv _ y r (by rw [hfl]; simp only [List.length_append, be4_len, be2_len]; omega)
  rw [hfl] at hH
  unfold ovL
  generalize shaL = HH at *
  clear hfl
  go_enter Tryz.func71, Tryz.ntmps71
  go_wp2_with (first
    | (go_at_call_of 24 (Value.int .i64 4); refine (h4 _).mono ?_; rintro e w1 ⟨v1, rfl, o1, hb1⟩; obtain ⟨a1, c1, rfl⟩ := o1.row.form)
    | (go_at_call_of 24 (Value.int .i64 2); refine (h2 _).mono ?_; rintro e w2 ⟨v2, rfl, o2, hb2⟩; obtain ⟨a2, c2, rfl⟩ := o2.row.form; have hb12 := keep_trans hb1 hb2; have hT := hH _ _ (rows_litL (B := w2.heap.size) (k := 5) (texts_cons (hi.below hb12) ti (texts_cons (o1.row.below hb2) o1.tidy (texts_cons o2.row o2.tidy (texts_cons (ha.below hb12) ta (texts_cons (hb.below hb12) tb (Texts.nil _)))))) rfl rfl (by decide)))
    | (go_at_call 54; refine hT.mono ?_; rintro e w4 ⟨v4, rfl, r4, n4, hb4⟩)
    | fail)
  go_ret
  exact ⟨_, rfl, r4, n4.mono (keep_trans hb12 (keep_alloc _ _)).size, keep_trans (keep_trans hb12 (keep_alloc _ _)) hb4⟩
set_option maxHeartbeats 4000000 in
set_option maxRecDepth 100000 in
theorem rleaf_any (id k : List Nat) (n : Nat) (idv kv : Value) (w : World) (hi : Row .u8 256 w idv id) (ti : Tidy idv) (ha : Row .u8 256 w kv k) (ta : Tidy kv) (hn : n < 18446744073709551616) (hl : id.length + k.length ≤ 50000) :
    Calls Tryz.prog 70 #[idv, .int .u64 (n : Int), kv] w fun e w' => ∃ v, e = .returned v ∧ Row .u8 256 w' v (lfS id n k) ∧ New w.heap.size v ∧ Below w.heap.size w w' := by
  obtain ⟨ia, ic, rfl, _⟩ := hi.opens rfl
  obtain ⟨aa, ac, rfl, _⟩ := ha.opens rfl
  have h4 := fun y => rbe4 n y hn
  have h2 := fun y => rbe2 33410 y (by decide)
  have hfl : [id, be4 n, be2 33410, k].flatten = id ++ (be4 n ++ (be2 33410 ++ k)) := by simp
  have hH := fun y lv (r : Rows2 y lv [id, be4 n, be2 33410, k]) => rH_any lv _ y r (by rw [hfl]; simp only [List.length_append, be4_len, be2_len]; omega)
  rw [hfl] at hH
  unfold lfS
  generalize shaL = HH at *
  clear hfl
  go_enter Tryz.func70, Tryz.ntmps70
  go_wp2_with (first
    | (go_at_call_of 24 (Value.int .i64 4); refine (h4 _).mono ?_; rintro e w1 ⟨v1, rfl, o1, hb1⟩; obtain ⟨a1, c1, rfl⟩ := o1.row.form)
    | (go_at_call_of 24 (Value.int .i64 2); refine (h2 _).mono ?_; rintro e w2 ⟨v2, rfl, o2, hb2⟩; obtain ⟨a2, c2, rfl⟩ := o2.row.form; have hb12 := keep_trans hb1 hb2; have hT := hH _ _ (rows_litL (B := w2.heap.size) (k := 4) (texts_cons (hi.below hb12) ti (texts_cons (o1.row.below hb2) o1.tidy (texts_cons o2.row o2.tidy (texts_cons (ha.below hb12) ta (Texts.nil _))))) rfl rfl (by decide)))
    | (go_at_call 54; refine hT.mono ?_; rintro e w4 ⟨v4, rfl, r4, n4, hb4⟩)
    | fail)
  go_ret
  exact ⟨_, rfl, r4, n4.mono (keep_trans hb12 (keep_alloc _ _)).size, keep_trans (keep_trans hb12 (keep_alloc _ _)) hb4⟩
/-- how many bytes a leaf's signature has; 0: there is no such kind -/
def szW (x : Int) : Nat := if x = 1 then 8516 else if x = 2 then 4292 else if x = 4 then 2180 else if x = 8 then 1124 else 0
theorem rsizeW (x : Int) (w : World) : Calls Tryz.prog 67 #[.int .i64 x] w fun e w' => e = .returned (.int .i64 (szW x : Nat)) ∧ w' = w := by
  rcases kd_or x with h | ⟨k, n, m, s, c, rfl, h⟩
  · have e0 : szW x = 0 := by
      obtain ⟨h1, h2, h4, h8⟩ := h
      unfold szW
      rw [if_neg h1, if_neg h2, if_neg h4, if_neg h8]
    rw [e0]
    exact rsize_no x w h
  · have e0 : szW (k : Int) = 36 + 32 * (n + m) := by cases h <;> rfl
    rw [e0]
    exact rsize_ok w h
/-- a tree is fit -/
def FitL (h x : Int) : Prop := lmCode h ≠ 0 ∧ szW x ≠ 0
instance (h x : Int) : Decidable (FitL h x) := by unfold FitL; infer_instance
structure Bx2T (W : World) (B : Nat) (v0 v1 : Value) : Prop where
  here : W.heap[B]? = some (.cells #[v0, v1] 45 (0, 0))
theorem Bx2T.lt {W : World} {B : Nat} {v0 v1 : Value} (h : Bx2T W B v0 v1) : B < W.heap.size := (Array.getElem?_eq_some_iff.1 h.here).1
theorem Bx2T.c0 {W : World} {B : Nat} {v0 v1 : Value} (h : Bx2T W B v0 v1) : W.cell? ⟨B, 0, none⟩ = some v0 := by simp [World.cell?, h.here]
theorem Bx2T.c1 {W : World} {B : Nat} {v0 v1 : Value} (h : Bx2T W B v0 v1) : W.cell? ⟨B, 1, none⟩ = some v1 := by simp [World.cell?, h.here]
theorem Bx2T.below {W W' : World} {B : Nat} {v0 v1 : Value} (h : Bx2T W B v0 v1) (hb : Below W.heap.size W W') : Bx2T W' B v0 v1 := ⟨(hb.block _ h.lt).trans h.here⟩
theorem Bx2T.new (W : World) (v0 v1 : Value) : Bx2T (W.alloc (.cells #[v0, v1] 45)) W.heap.size v0 v1 := ⟨heap_alloc_new W _⟩
set_option maxHeartbeats 4000000 in
set_option maxRecDepth 100000 in
theorem rhead_any {k n m s c : Nat} (h : Int) (w : World) (hk : Kd k n m s c) : Calls Tryz.prog 47 #[.agg #[.int .i64 h, .int .i64 (k : Int)]] w fun e w' => ∃ v, e = .returned v ∧ Row .u8 256 w' v (be4 (lmCode h) ++ be4 c) ∧ New w.heap.size v ∧ Tidy v ∧ Below w.heap.size w w' := by
  have hc := fun y => rcode_any h y
  have hkk := fun y => rkind_ok y hk
  have hcl := lmCode_32 h
  obtain ⟨C, hC⟩ : ∃ C, C = lmCode h := ⟨_, rfl⟩
  rw [← hC] at hc hcl ⊢
  have h4 := fun y => rbe4 C y (by omega)
  have h4c := fun y => rbe4 c y (by have := hk.pos; omega)
  obtain ⟨P, hP⟩ : ∃ P : Nat, P = n + m := ⟨_, rfl⟩
  rw [← hP] at hkk
  obtain ⟨i0, hi0, hz0, hz1, hz2⟩ := info_byte
  clear hC hP hk hcl
  go_enter Tryz.func47, Tryz.ntmps47
  go_wp2_with (first
    | (go_at_call 77; refine (hkk _).mono ?_; rintro e yy ⟨rfl, hy⟩; obtain rfl := hy.symm)
    | (go_at_call 56; refine (hc _).mono ?_; rintro e yy ⟨rfl, hy⟩; obtain rfl := hy.symm)
    | (go_at_call_of 24 (Value.int .u64 (C : Int)); refine (h4 _).mono ?_; rintro e w1 ⟨v1, rfl, o1, hb1⟩; have r1 := o1.row; obtain ⟨a1, c1, rfl, _⟩ := r1.opens (be4_len _))
    | (go_at_call_of 24 (Value.int .u64 (c : Int)); refine (h4c _).mono ?_; rintro e w2 ⟨v2, rfl, o2, hb2⟩; have r2 := o2.row; obtain ⟨a2, c2, rfl, _, _, g2⟩ := r2.opens (be4_len _); obtain ⟨b2, f2, rfl, _⟩ := g2 (by decide); have hb12 := keep_trans hb1 hb2; have o1' := own_belowA o1.1 hb2; rw [be4_len] at o1')
    | (at_builtin; refine wpList_appA rfl _ _ rfl (w.alloc (.cells #[.int .i64 h, .int .i64 (k : Int)] 45)).heap.size _ _ 4 _ (be4 c) rfl o1' rfl r2 (tidy_atA _ _ _) (by decide) (by rw [be4_len]; decide) hb12.size ?_; intro v3 w3 how3 hg3)
    | fail)
  go_ret
  have hbw := keep_trans (keep_alloc w (.cells #[.int .i64 h, .int .i64 (k : Int)] 45)) hb12
  have oW : Own 5 .u8 256 w3 (w.alloc (.cells #[.int .i64 h, .int .i64 (k : Int)] 45)).heap.size v3 (be4 C ++ be4 c) := ⟨by rw [List.length_append, be4_len, be4_len]; exact how3, Under.append (be4_under _) (be4_under _)⟩
  have oN := oW.mono (B' := w.heap.size) (by rw [World.size_alloc]; omega)
  exact ⟨_, rfl, oN.row, oN.new, oN.tidy, hbw.grown hg3 hbw.size (fun q hq => by have h1 := (o1'.lt q hq).1; rw [World.size_alloc] at h1; omega)⟩
end Go.Proofs.YtogiballdmgcpaaGreatDoor
