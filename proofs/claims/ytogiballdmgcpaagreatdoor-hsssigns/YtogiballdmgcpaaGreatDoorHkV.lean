/- Trees of trees: the document's Vector. -/
import Derived.Test.YtogiballdmgcpaaGreatDoorHkF
import Derived.Test.YtogiballdmgcpaaGreatDoorLmR
import Derived.Test.YtogiballdmgcpaaGreatDoorHRes32
import Derived.Test.YtogiballdmgcpaaGreatDoorBase
import Derived.Test.YtogiballdmgcpaaGreatDoorHSl
import Derived.Test.YtogiballdmgcpaaGreatDoorHN1
import Derived.Test.YtogiballdmgcpaaGreatDoorPlan
namespace Go.Proofs.YtogiballdmgcpaaGreatDoor
open Go.RowKit
set_option linter.unusedVariables false
set_option linter.unusedSimpArgs false

/-- a number's leaves -/
def vecF : List (Int × Int) → Nat → List Nat
  | [], _ => []
  | t :: ts, n => n / lvN ts % 2 ^ t.1.toNat :: vecF ts n
theorem vecF_len : ∀ (ts : List (Int × Int)) (n : Nat), (vecF ts n).length = ts.length
  | [], _ => rfl
  | t :: ts, n => by show (vecF ts n).length + 1 = _; rw [vecF_len ts n]; rfl
theorem tr_drop {ts : List (Int × Int)} {i : Nat} (h : i < ts.length) : ts.drop i = trA ts i :: ts.drop (i + 1) := by
  rw [List.drop_eq_getElem_cons h]
  unfold trA
  rw [List.getD_eq_getElem?_getD, List.getElem?_eq_getElem h]
  rfl
theorem lvN_cons {ts : List (Int × Int)} {t : Int × Int} (h1 : 0 ≤ sumH ts) (h2 : 0 ≤ t.1) : lvN (t :: ts) = 2 ^ t.1.toNat * lvN ts := by
  unfold lvN
  show 2 ^ (t.1 + sumH ts).toNat = _
  rw [show (t.1 + sumH ts).toNat = t.1.toNat + (sumH ts).toNat by omega, Nat.pow_add]
theorem sumH_drop {ts : List (Int × Int)} (h : ∀ t ∈ ts, FitG t) (i : Nat) : 0 ≤ sumH (ts.drop i) := (sumH_le (ts.drop i) (fun t ht => h t (List.mem_of_mem_drop ht))).1
/-- one leaf more, from the last on -/
theorem vec_step {ts : List (Int × Int)} (h : ∀ t ∈ ts, FitG t) {i : Nat} (hi : i < ts.length) (n : Nat) :
    vecF (ts.drop i) n = n / lvN (ts.drop (i + 1)) % 2 ^ (trA ts i).1.toNat :: vecF (ts.drop (i + 1)) n ∧ n / lvN (ts.drop (i + 1)) / 2 ^ (trA ts i).1.toNat = n / lvN (ts.drop i) := by
  have hp := (h _ (trA_mem hi)).pos
  rw [tr_drop hi]
  refine ⟨rfl, ?_⟩
  rw [lvN_cons (sumH_drop h (i + 1)) (by omega), Nat.div_div_eq_div_mul, Nat.mul_comm]
theorem set_rep (i x : Nat) (ds : List Nat) : (List.replicate (i + 1) 0 ++ ds).set i x = List.replicate i 0 ++ x :: ds := by
  rw [List.set_append_left _ _ (by simp), List.replicate_succ', List.set_append_right _ _ (by simp)]
  simp
/-- what is wrong with a number -/
def vcE (ts : List (Int × Int)) (il sl n : Nat) : Int := if ¬ FitK ts il sl then 10 else if lvN ts ≤ n then 13 else 0
theorem made_u32 (n : Nat) : (madeCells (Value.int .u32 0).cells (n * 1)).toList = vals .u32 (List.replicate n 0) := by
  rw [Nat.mul_one]
  show (madeCells #[Value.int .u32 0] n).toList = _
  rw [toList_madeCells_one]
  simp [vals]
theorem vecF_under {ts : List (Int × Int)} (h : ∀ t ∈ ts, FitG t) (n : Nat) : Under 4294967296 (vecF ts n) := by
  induction ts with
  | nil => intro x hx; cases hx
  | cons t ts ih =>
    intro x hx
    rcases List.mem_cons.1 hx with rfl | hx
    · have hp := (h t (by simp)).pos
      refine Nat.lt_of_lt_of_le (Nat.mod_lt _ (Nat.pow_pos (by decide))) (Nat.le_trans (Nat.pow_le_pow_right (by decide) (show t.1.toNat ≤ 10 by omega)) (by decide))
    · exact ih (fun t ht => h t (List.mem_cons_of_mem _ ht)) x hx
/-- where Vector stands -/
def KvL (w : World) (B O : Nat) (N : Nat) (v0 v1 v2 : Value) (ts : List (Int × Int)) (n : Nat) (vn vi : Value) (wr : World) : Prop := ∃ i : Nat, i ≤ N ∧ vi = .int .i64 ((i : Int) - 1) ∧ vn = .int .u64 ((n / lvN (ts.drop i) : Nat) : Int) ∧ wr.ownsRow O 52 1 (.slice (some ⟨O, 0, none⟩) N N) N (vals .u32 (List.replicate i 0 ++ vecF (ts.drop i) n)) ∧ BxK wr B v0 v1 v2 ∧ Below w.heap.size w wr
set_option maxHeartbeats 4000000 in
set_option maxRecDepth 100000 in
theorem rvec_ok (ts : List (Int × Int)) (tv : Value) (ia sa : Option Addr) (il ic sl sc n : Nat) (w : World) (ht : TrS w tv ts) (hK : FitK ts il sl) (hn : n < lvN ts) :
    Calls Tryz.prog 28 #[.agg #[tv, .slice ia il ic, .slice sa sl sc], .int .u64 (n : Int)] w fun e w' => ∃ v, e = .returned (.tuple #[v, .int .i64 0]) ∧ Own 52 .u32 4294967296 w' w.heap.size v (vecF ts n) ∧ Below w.heap.size w w' := by
  have hfk := fun y (h : Below w.heap.size w y) => rfitK_any ts tv ia sa il ic sl sc y (ht.below h)
  have hlk := fun y (h : Below w.heap.size w y) => rlvs_any ts tv ia sa il ic sl sc y (ht.below h)
  have ht' := ht
  obtain ⟨ta, tc, rfl, t1, t2, tcell⟩ := ht'
  have b0 := BxK.new w (.slice ta ts.length tc) (.slice ia il ic) (.slice sa sl sc)
  have hb0 := keep_alloc w (.cells #[.slice ta ts.length tc, .slice ia il ic, .slice sa sl sc] 25)
  rw [decide_eq_true hK] at hfk
  rw [if_pos hK] at hlk
  obtain ⟨N, hN⟩ : ∃ N, ts.length = N := ⟨_, rfl⟩
  rw [hN] at b0 hb0 hfk hlk ⊢
  have hll := lvN_lt hK.2.2.2.1
  obtain ⟨LV, hLV⟩ : ∃ L, lvN ts = L := ⟨_, rfl⟩
  rw [hLV] at hlk hn hll
  have hnl : ¬ ((LV : Int) ≤ (n : Int)) := by omega
  have hN8 : N ≤ 8 ∧ 1 ≤ N := ⟨by have := hK.2.1; omega, by have := hK.1; omega⟩
  have HT := hide (And.intro hK (And.intro tcell (And.intro hN (And.intro hLV hn))))
  clear hK tcell ht hLV hn hll
  obtain ⟨i0, hi, hz0, hz1, hz2⟩ := info_parts Tryz.info52
  obtain ⟨N1, hN1⟩ : ∃ x : Nat, x + 1 = N := ⟨N - 1, by omega⟩
  have e_N : (N : Int) - 1 = (N1 : Int) := by omega
  have s_N : IntKind.i64.wrap (N1 : Int) = (N1 : Int) := by rw [IntKind.wrap_i64]; omega
  have HN := hide hN1
  clear hN1
  go_enter Tryz.func28, Tryz.ntmps28
  go_wp2_with (first
    | (go_at_call 17; refine (hfk _ hb0).mono ?_; rintro e w1 ⟨rfl, g1⟩; have b1 := b0.below g1; have k1 := keep_trans hb0 g1; have q0 := b1.c0; have q1 := b1.c1; have q2 := b1.c2)
    | (go_at_call 53; refine (hlk _ k1).mono ?_; rintro e w2 ⟨rfl, g2⟩; have b2 := b1.below g2; have k2 := keep_trans k1 g2; have p0 := b2.c0; have p1 := b2.c1; have p2 := b2.c2)
    | (at_make; refine wpList_make_full _ rfl _ _ 49 rfl w2.heap.size 52 i0 (.int .u32 0) 1 Tryz.underlying49 hi hz0 hz1 _ _ _ _ N rfl rfl rfl rfl (by rw [hz2]; omega) (by unfold maxLen; omega) (Nat.le_refl _) ?_; intro w3 hown hgrow; rw [made_u32] at hown; have g3 := (Below.refl w2.heap.size w2).grown hgrow (Nat.le_refl _) (fun k h => by cases h); have b3 := b2.below g3; have r0 := b3.c0)
    | fail)
  have h0 : KvL w w.heap.size w2.heap.size N (.slice ta N tc) (.slice ia il ic) (.slice sa sl sc) ts n (.int .u64 (n : Int)) (.int .i64 (N1 : Int)) w3 := by
    obtain ⟨hK, tcell, hN, hLV, hn⟩ := HT.out
    refine ⟨N, Nat.le_refl _, by have := HN.out; rw [← this]; congr 1; omega, ?_, ?_, b3, keep_trans k2 g3⟩
    · rw [List.drop_of_length_le (by omega)]; show Value.int .u64 (n : Int) = .int .u64 ((n / 2 ^ 0 : Nat) : Int); rw [Nat.pow_zero, Nat.div_one]
    · rw [List.drop_of_length_le (by omega)]; show w3.ownsRow _ _ _ _ _ (vals .u32 (List.replicate N 0 ++ [])); rw [List.append_nil]; exact hown
  have H0 := hide h0
  have O_le : w.heap.size ≤ w2.heap.size := k2.size
  have O_lt := b2.lt
  clear h0 hown hgrow g3 b3 r0 b2 p0 p1 p2 b1 q0 q1 q2 b0 hfk hlk
  go_loopw [1, 7] (fun vn vi wr => KvL w w.heap.size w2.heap.size N (.slice ta N tc) (.slice ia il ic) (.slice sa sl sc) ts n vn vi wr) (fun _ vi _ => (intOf vi + 1).toNat)
  case atStart => exact H0.out
  case round =>
    obtain ⟨i, hi, rfl, rfl, how, bx, hbr⟩ := hrel
    have c0 := bx.c0
    obtain ⟨hK, tcell, hN, hLV, hn⟩ := HT.out
    by_cases hlt : 1 ≤ i
    · obtain ⟨J, rfl⟩ : ∃ J, i = J + 1 := ⟨i - 1, by omega⟩
      obtain ⟨tb, to, rfl, tcc⟩ := tcell (by omega)
      obtain ⟨x1, x2⟩ := tcc J (by omega)
      have y1 : wr.cell? ⟨tb, to + J * 2, none⟩ = some (.int .i64 (trA ts J).1) := by rw [hbr.cell (p := ⟨tb, to + J * 2, none⟩) (World.block_lt_of_cell? _ _ x1)]; exact x1
      have htb : tb < w.heap.size := World.block_lt_of_cell? _ _ x1
      have ntb : ¬ tb = w2.heap.size := by omega
      have ntb2 : ¬ w2.heap.size = tb := by omega
      have hp := (hK.2.2.1 _ (trA_mem (ts := ts) (i := J) (by omega))).pos
      obtain ⟨v1, v2⟩ := vec_step hK.2.2.1 (i := J) (by omega) n
      obtain ⟨th, hth⟩ : ∃ t : Nat, (trA ts J).1 = (t : Int) := ⟨(trA ts J).1.toNat, by omega⟩
      rw [hth, Int.toNat_natCast] at v1 v2
      rw [hth] at y1 hp
      have hn60 : n < 1152921504606846976 := by have := lvN_lt hK.2.2.2.1; omega
      obtain ⟨A, hA⟩ : ∃ A, n / lvN (ts.drop (J + 1)) = A := ⟨_, rfl⟩
      have hAn : A ≤ n := by rw [← hA]; exact Nat.div_le_self _ _
      obtain ⟨A2, hA2⟩ : ∃ A, n / lvN (ts.drop J) = A := ⟨_, rfl⟩
      rw [hA] at v1 v2 ⊢
      rw [hA2] at v2
      obtain ⟨M, hM⟩ : ∃ M, 2 ^ th = M := ⟨_, rfl⟩
      have hM0 : 0 < M := by rw [← hM]; exact Nat.pow_pos (by decide)
      have hM2 : M ≤ 1024 := by rw [← hM]; exact Nat.le_trans (Nat.pow_le_pow_right (by decide) (show th ≤ 10 by omega)) (by decide)
      rw [hM] at v1 v2
      have e_M : (2 : Int) ^ th = (M : Int) := by rw [← hM]; norm_cast
      have s_M : IntKind.u64.wrap (M : Int) = (M : Int) := by rw [IntKind.wrap_u64]; omega
      have n_M : ¬ (M : Int) = 0 := by omega
      obtain ⟨D, hD⟩ : ∃ D, A % M = D := ⟨_, rfl⟩
      have hDl : D < M := by rw [← hD]; exact Nat.mod_lt _ hM0
      have e_D : (A : Int) % (M : Int) = (D : Int) := by rw [← hD]; norm_cast
      have s_D : IntKind.u64.wrap (D : Int) = (D : Int) := by rw [IntKind.wrap_u64]; omega
      have s_D2 : IntKind.u32.wrap (D : Int) = (D : Int) := by rw [IntKind.wrap_u32]; omega
      have e_A : (A : Int) / (M : Int) = (A2 : Int) := by rw [← v2]; norm_cast
      have th64 : (th : Int) < 64 := by omega
      have e_J : ((J + 1 : Nat) : Int) - 1 = (J : Int) := by omega
      have g_J : (0 : Int) ≤ (J : Int) := by omega
      rw [e_J]
      obtain ⟨K, hKk⟩ : ∃ K : Int, (J : Int) - 1 = K := ⟨_, rfl⟩
      have s_K : IntKind.i64.wrap K = K := by rw [IntKind.wrap_i64]; omega
      rw [hD] at v1
      have hJN : J < N := by omega
      have cJ : wr.cell? ⟨w2.heap.size, J, none⟩ = some (.int .u32 (0 : Int)) := by
        rw [how.cellAt J (by omega), vals_get _ _ _ (by rw [List.length_append, List.length_replicate]; omega)]
        rw [show el (List.replicate (J + 1) 0 ++ vecF (ts.drop (J + 1)) n) J = 0 by unfold el; rw [List.getElem?_append_left (by simp), List.getElem?_replicate]; simp]
        rfl
      have fJ := how.frozenAt J
      have HQ := hide (And.intro v1 (And.intro hA2 (And.intro hKk (And.intro how (And.intro bx (And.intro hbr hN))))))
      have HJ := hide hJN
      have hbO : w.heap.size ≤ w2.heap.size := O_le
      clear v1 hA hA2 hM v2 hD hKk how bx hbr hN hth x1 x2 tcc tcell hK hLV hn hlt hi
      go_wp2
      obtain ⟨v1, hA2, hKk, how, bx, hbr, hN⟩ := HQ.out
      have st := (how.stored J (.int .u32 (D : Int))).1
      rw [vals_set, set_rep, ← v1] at st
      refine ⟨⟨J, by omega, by rw [hKk], by rw [hA2], st, ⟨(But.refl w2.heap.size wr |>.setCell J (.int .u32 (D : Int))).block _ bx.lt ?_ |>.trans bx.here⟩, hbr.setCell (p := ⟨w2.heap.size, J, none⟩) (by simpa using hbO) _⟩, ?_⟩
      · omega
      · simp [intOf]
    · obtain rfl : i = 0 := by omega
      have HK := hide (And.intro how (And.intro hbr hK))
      clear hK hN hLV hn how bx hbr tcell
      go_wp2
      go_ret2
      obtain ⟨how, hbr, hK⟩ := HK.out
      refine ⟨_, rfl, ⟨?_, vecF_under hK.2.2.1 n⟩, hbr⟩
      rw [vecF_len, HT.out.2.2.1]
      exact ownsRow_base how O_le
set_option maxHeartbeats 4000000 in
set_option maxRecDepth 100000 in
theorem rvec_no (ts : List (Int × Int)) (tv : Value) (ia sa : Option Addr) (il ic sl sc n : Nat) (w : World) (ht : TrS w tv ts) (hE : vcE ts il sl n ≠ 0) (hn : n < 18446744073709551616) :
    Calls Tryz.prog 28 #[.agg #[tv, .slice ia il ic, .slice sa sl sc], .int .u64 (n : Int)] w fun e w' => e = .returned (.tuple #[.slice none 0 0, .int .i64 (vcE ts il sl n)]) ∧ Below w.heap.size w w' := by
  have hfk := fun y (h : Below w.heap.size w y) => rfitK_any ts tv ia sa il ic sl sc y (ht.below h)
  have hlk := fun y (h : Below w.heap.size w y) => rlvs_any ts tv ia sa il ic sl sc y (ht.below h)
  have ht' := ht
  obtain ⟨ta, tc, rfl, t1, t2, tcell⟩ := ht'
  have b0 := BxK.new w (.slice ta ts.length tc) (.slice ia il ic) (.slice sa sl sc)
  have hb0 := keep_alloc w (.cells #[.slice ta ts.length tc, .slice ia il ic, .slice sa sl sc] 25)
  by_cases hK : FitK ts il sl
  · rw [decide_eq_true hK] at hfk
    rw [if_pos hK] at hlk
    have hl : lvN ts ≤ n := by
      refine Decidable.byContradiction fun h => hE ?_
      unfold vcE
      rw [if_neg (by simp [hK]), if_neg h]
    have he : vcE ts il sl n = 13 := by unfold vcE; rw [if_neg (by simp [hK]), if_pos hl]
    rw [he]
    generalize ts.length = N at *
    generalize lvN ts = LV at *
    have hnl : (LV : Int) ≤ (n : Int) := by omega
    clear hK tcell ht hE he hl
    go_enter Tryz.func28, Tryz.ntmps28
    go_wp2_with (first
      | (go_at_call 17; refine (hfk _ hb0).mono ?_; rintro e w1 ⟨rfl, g1⟩; have b1 := b0.below g1; have k1 := keep_trans hb0 g1; have q0 := b1.c0; have q1 := b1.c1; have q2 := b1.c2)
      | (go_at_call 53; refine (hlk _ k1).mono ?_; rintro e w2 ⟨rfl, g2⟩)
      | fail)
    go_ret2
    exact ⟨rfl, keep_trans k1 g2⟩
  · rw [decide_eq_false hK] at hfk
    have he : vcE ts il sl n = 10 := by unfold vcE; rw [if_pos hK]
    rw [he]
    generalize ts.length = N at *
    clear hK tcell ht hE he hlk
    go_enter Tryz.func28, Tryz.ntmps28
    go_wp2_with (first
      | (go_at_call 17; refine (hfk _ hb0).mono ?_; rintro e w1 ⟨rfl, g1⟩)
      | fail)
    go_ret2
    exact ⟨rfl, keep_trans hb0 g1⟩
end Go.Proofs.YtogiballdmgcpaaGreatDoor

/- Leaves that sign once, the program's own: kindOf, and a kind's code, size, top. -/
namespace Go.Proofs.YtogiballdmgcpaaGreatDoor
open Go.RowKit
set_option linter.unusedVariables false
set_option linter.unusedSimpArgs false

set_option maxHeartbeats 2000000 in
set_option maxRecDepth 100000 in
theorem ckind_1 (w : World) : Calls Tryz.prog 115 #[.int .i64 1] w fun e w' => e = .returned (.tuple #[.agg #[.int .i64 1, .int .i64 265, .int .i64 7, .int .u64 1], .int .i64 0]) ∧ Below w.heap.size w w' := by
  go_enter Tryz.func115, Tryz.ntmps115
  go_wp2
  refine bodyPost_ret (v := .tuple #[.agg #[.int .i64 1, .int .i64 265, .int .i64 7, .int .u64 1], .int .i64 0]) (by simp [results, Tryz.results115, go_sem]) rfl ⟨rfl, ?_⟩
  exact keep_alloc _ _
set_option maxHeartbeats 2000000 in
set_option maxRecDepth 100000 in
theorem ckind_2 (w : World) : Calls Tryz.prog 115 #[.int .i64 2] w fun e w' => e = .returned (.tuple #[.agg #[.int .i64 2, .int .i64 133, .int .i64 6, .int .u64 2], .int .i64 0]) ∧ Below w.heap.size w w' := by
  go_enter Tryz.func115, Tryz.ntmps115
  go_wp2
  refine bodyPost_ret (v := .tuple #[.agg #[.int .i64 2, .int .i64 133, .int .i64 6, .int .u64 2], .int .i64 0]) (by simp [results, Tryz.results115, go_sem]) rfl ⟨rfl, ?_⟩
  exact keep_alloc _ _
set_option maxHeartbeats 2000000 in
set_option maxRecDepth 100000 in
theorem ckind_4 (w : World) : Calls Tryz.prog 115 #[.int .i64 4] w fun e w' => e = .returned (.tuple #[.agg #[.int .i64 4, .int .i64 67, .int .i64 4, .int .u64 3], .int .i64 0]) ∧ Below w.heap.size w w' := by
  go_enter Tryz.func115, Tryz.ntmps115
  go_wp2
  refine bodyPost_ret (v := .tuple #[.agg #[.int .i64 4, .int .i64 67, .int .i64 4, .int .u64 3], .int .i64 0]) (by simp [results, Tryz.results115, go_sem]) rfl ⟨rfl, ?_⟩
  exact keep_alloc _ _
set_option maxHeartbeats 2000000 in
set_option maxRecDepth 100000 in
theorem ckind_8 (w : World) : Calls Tryz.prog 115 #[.int .i64 8] w fun e w' => e = .returned (.tuple #[.agg #[.int .i64 8, .int .i64 34, .int .i64 0, .int .u64 4], .int .i64 0]) ∧ Below w.heap.size w w' := by
  go_enter Tryz.func115, Tryz.ntmps115
  go_wp2
  refine bodyPost_ret (v := .tuple #[.agg #[.int .i64 8, .int .i64 34, .int .i64 0, .int .u64 4], .int .i64 0]) (by simp [results, Tryz.results115, go_sem]) rfl ⟨rfl, ?_⟩
  exact keep_alloc _ _
theorem ckind_ok {k n m s c P : Nat} (h : Kd k n m s c) (hP : P = n + m) (w : World) : Calls Tryz.prog 115 #[.int .i64 (k : Int)] w fun e w' => e = .returned (.tuple #[.agg #[.int .i64 (k : Int), .int .i64 (P : Int), .int .i64 (s : Int), .int .u64 (c : Int)], .int .i64 0]) ∧ Below w.heap.size w w' := by
  subst hP
  cases h
  · exact ckind_1 w
  · exact ckind_2 w
  · exact ckind_4 w
  · exact ckind_8 w
theorem cbe2 (a : Nat) (w : World) (ha : a < 18446744073709551616) : Calls Tryz.prog 21 #[.int .u64 (a : Int), .int .i64 2] w fun e w' => ∃ v, e = .returned v ∧ Own 5 .u8 256 w' w.heap.size v (be2 a) ∧ Below w.heap.size w w' := by
  have := be_any a 2 w ha (by decide) (by decide)
  rw [leS_2] at this
  exact this
theorem cbe4 (a : Nat) (w : World) (ha : a < 18446744073709551616) : Calls Tryz.prog 21 #[.int .u64 (a : Int), .int .i64 4] w fun e w' => ∃ v, e = .returned v ∧ Own 5 .u8 256 w' w.heap.size v (be4 a) ∧ Below w.heap.size w w' := by
  have := be_any a 4 w ha (by decide) (by decide)
  rw [leS_4] at this
  exact this
theorem leS_1b (n : Nat) (h : n < 256) : (leS n 1).reverse = [n] := by
  unfold leS
  rw [if_neg (by decide)]
  show (leL n 1).reverse = [n]
  simp [leL]
  omega
theorem cbe1 (a : Nat) (w : World) (ha : a < 256) : Calls Tryz.prog 21 #[.int .u64 (a : Int), .int .i64 1] w fun e w' => ∃ v, e = .returned v ∧ Own 5 .u8 256 w' w.heap.size v [a] ∧ Below w.heap.size w w' := by
  have := be_any a 1 w (by omega) (by decide) (by decide)
  rw [leS_1b a ha] at this
  exact this
set_option maxHeartbeats 2000000 in
set_option maxRecDepth 100000 in
theorem kcode_any (k P s c : Nat) (w : World) (hc : c < 18446744073709551616) : Calls Tryz.prog 93 #[.agg #[.int .i64 (k : Int), .int .i64 (P : Int), .int .i64 (s : Int), .int .u64 (c : Int)]] w fun e w' => ∃ v, e = .returned v ∧ Own 5 .u8 256 w' w.heap.size v (be4 c) ∧ Below w.heap.size w w' := by
  have h4 := fun y => cbe4 c y hc
  go_enter Tryz.func93, Tryz.ntmps93
  go_wp2_with (first
    | (go_at_call 21; refine (h4 _).mono ?_; rintro e w1 ⟨v1, rfl, o1, hb1⟩)
    | fail)
  go_ret
  exact ⟨_, rfl, o1.mono (keep_alloc _ _).size, keep_trans (keep_alloc _ _) hb1⟩
set_option maxHeartbeats 2000000 in
set_option maxRecDepth 100000 in
theorem ktop_1 (P s c : Nat) (w : World) : Calls Tryz.prog 97 #[.agg #[.int .i64 1, .int .i64 (P : Int), .int .i64 (s : Int), .int .u64 (c : Int)]] w fun e w' => e = .returned (.int .u32 1) ∧ Below w.heap.size w w' := by
  go_enter Tryz.func97, Tryz.ntmps97
  go_wp2
  go_ret
  exact ⟨rfl, keep_alloc _ _⟩
set_option maxHeartbeats 2000000 in
set_option maxRecDepth 100000 in
theorem ktop_2 (P s c : Nat) (w : World) : Calls Tryz.prog 97 #[.agg #[.int .i64 2, .int .i64 (P : Int), .int .i64 (s : Int), .int .u64 (c : Int)]] w fun e w' => e = .returned (.int .u32 3) ∧ Below w.heap.size w w' := by
  go_enter Tryz.func97, Tryz.ntmps97
  go_wp2
  go_ret
  exact ⟨rfl, keep_alloc _ _⟩
set_option maxHeartbeats 2000000 in
set_option maxRecDepth 100000 in
theorem ktop_4 (P s c : Nat) (w : World) : Calls Tryz.prog 97 #[.agg #[.int .i64 4, .int .i64 (P : Int), .int .i64 (s : Int), .int .u64 (c : Int)]] w fun e w' => e = .returned (.int .u32 15) ∧ Below w.heap.size w w' := by
  go_enter Tryz.func97, Tryz.ntmps97
  go_wp2
  go_ret
  exact ⟨rfl, keep_alloc _ _⟩
set_option maxHeartbeats 2000000 in
set_option maxRecDepth 100000 in
theorem ktop_8 (P s c : Nat) (w : World) : Calls Tryz.prog 97 #[.agg #[.int .i64 8, .int .i64 (P : Int), .int .i64 (s : Int), .int .u64 (c : Int)]] w fun e w' => e = .returned (.int .u32 255) ∧ Below w.heap.size w w' := by
  go_enter Tryz.func97, Tryz.ntmps97
  go_wp2
  go_ret
  exact ⟨rfl, keep_alloc _ _⟩
theorem ktop_ok {k n m s c P : Nat} (h : Kd k n m s c) (hP : P = n + m) (w : World) : Calls Tryz.prog 97 #[.agg #[.int .i64 (k : Int), .int .i64 (P : Int), .int .i64 (s : Int), .int .u64 (c : Int)]] w fun e w' => e = .returned (.int .u32 ((2 ^ k - 1 : Nat) : Int)) ∧ Below w.heap.size w w' := by
  cases h
  · exact ktop_1 P 7 1 w
  · exact ktop_2 P 6 2 w
  · exact ktop_4 P 4 3 w
  · exact ktop_8 P 0 4 w
end Go.Proofs.YtogiballdmgcpaaGreatDoor
