/- Keys of chains: the document's Draw, chain, begin, key. -/
import Derived.Test.YtpmobjfhhkglbaaGreatDoorWtB
import Derived.Test.YtpmobjfhhkglbaaGreatDoorDig
import Derived.Test.YtpmobjfhhkglbaaGreatDoorHaM
namespace Go.Proofs.YtpmobjfhhkglbaaGreatDoor
open Go.RowKit
set_option linter.unusedVariables false
set_option linter.unusedSimpArgs false

theorem BxSW.range {W : World} {B : Nat} {N H D A K : Int} {sh : Bool} (h : BxSW W B N H D A K sh) : W.rangeAt B 0 [.int .i64 N, .int .i64 H, .int .i64 D, .int .i64 A, .int .i64 K, .bool sh] := fun j v hv => by
  rw [Nat.zero_add]
  simp only [World.cell?, h.here]
  simpa using hv
section
variable {N : Nat} {H D A K : Int}
theorem rsumW_ok (sh : Bool) (pub a text : List Nat) (pv tv : Value) (w : World) (hF : FitX (N : Int) H D A K) (ha : Pl a) (hp : Row .u8 256 w pv pub) (tp : Tidy pv) (ht : Row .u8 256 w tv text) (tt : Tidy tv) (hpl : pub.length = N) (htl : text.length ≤ 50000) :
    Calls Tryz.prog 16 #[slV (N : Int) H D A K sh, pv, .agg (arr .u8 a), tv] w fun e w' => ∃ v, e = .returned v ∧ Row .u8 256 w' v (sumW N sh pub a text) ∧ New w.heap.size v ∧ Below w.heap.size w w' := by
  cases sh
  · by_cases h1 : 16 < N
    · by_cases h2 : N < text.length
      · exact rsumW_m pub a text pv tv w hF ha hp tp ht tt hpl htl h1 h2
      · exact rsumW_f pub a text pv tv w hF ha hp tp ht tt hpl htl h1 h2
    · exact rsumW_s pub a text pv tv w hF ha hp tp ht tt hpl htl h1
  · exact rsumW_t pub a text pv tv w hF ha hp tp ht tt hpl htl
theorem fitN (hF : FitX (N : Int) H D A K) : 16 ≤ N ∧ N ≤ 32 := by have := hF.1; omega
/-- the world with a kind and a place in boxes -/
theorem boxW (w : World) (sh : Bool) {a : List Nat} : BxSW ((w.alloc (.cells #[.int .i64 (N : Int), .int .i64 H, .int .i64 D, .int .i64 A, .int .i64 K, .bool sh] 23)).alloc (.cells (arr .u8 a) 25)) w.heap.size (N : Int) H D A K sh ∧ Lies .u8 25 ((w.alloc (.cells #[.int .i64 (N : Int), .int .i64 H, .int .i64 D, .int .i64 A, .int .i64 K, .bool sh] 23)).alloc (.cells (arr .u8 a) 25)) (w.heap.size + 1) a ∧ Below w.heap.size w ((w.alloc (.cells #[.int .i64 (N : Int), .int .i64 H, .int .i64 D, .int .i64 A, .int .i64 K, .bool sh] 23)).alloc (.cells (arr .u8 a) 25)) := by
  have L0 := Lies.new .u8 25 (w.alloc (.cells #[.int .i64 (N : Int), .int .i64 H, .int .i64 D, .int .i64 A, .int .i64 K, .bool sh] 23)) a
  rw [World.size_alloc] at L0
  exact ⟨(BxSW.new w (N : Int) H D A K sh).below (keep_alloc _ _), L0, keep_trans (keep_alloc _ _) (keep_alloc _ _)⟩
set_option maxHeartbeats 4000000 in
set_option maxRecDepth 100000 in
theorem rdrawW_ok (sh : Bool) (pub a secret : List Nat) (pv sv : Value) (w : World) (hF : FitX (N : Int) H D A K) (ha : Pl a) (hp : Row .u8 256 w pv pub) (tp : Tidy pv) (hs : Row .u8 256 w sv secret) (ts : Tidy sv) (hpl : pub.length = N) (hsl : secret.length = N) :
    Calls Tryz.prog 18 #[slV (N : Int) H D A K sh, pv, sv, .agg (arr .u8 a)] w fun e w' => ∃ v, e = .returned v ∧ Row .u8 256 w' v (sumW N sh pub a secret) ∧ New w.heap.size v ∧ Below w.heap.size w w' := by
  have hN := fitN hF
  obtain ⟨bx, La, k0⟩ := boxW (N := N) (H := H) (D := D) (A := A) (K := K) w sh (a := a)
  have hsum := rsumW_ok sh pub a secret pv sv _ hF ha (hp.below k0) tp (hs.below k0) ts hpl (by omega)
  obtain ⟨pa, pc, rfl, _⟩ := hp.opens hpl
  obtain ⟨sa, sc, rfl, _⟩ := hs.opens hsl
  unfold slV at hsum ⊢
  generalize sumW N sh pub a secret = SS at *
  have c0 := bx.c0
  have hal := ha.1
  clear hF hN hpl hsl hp hs
  go_enter Tryz.func18, Tryz.ntmps18
  go_wp2_with (first
    | (refine wpList_load_rowS (by rfl) 23 _ (by rfl) w.heap.size (by rfl) _ _ _ _ bx.here Tryz.underlying23 (by kernel_rfl) ?_)
    | (refine wpList_load_row rfl 25 _ (by rfl) (w.heap.size + 1) (by rfl) _ _ _ (.array 32 5) La (by kernel_rfl) rfl (by rw [arr_size, hal]; kernel_rfl) ?_)
    | (go_at_call 16; refine hsum.mono ?_; rintro e w1 ⟨v, rfl, r1, n1, g1⟩)
    | fail)
  go_ret
  exact ⟨_, rfl, r1, n1.mono k0.size, keep_trans k0 g1⟩
end
end Go.Proofs.YtpmobjfhhkglbaaGreatDoor

/- Contract of apostilleref01.Digits. -/
namespace Go.Proofs.YtpmobjfhhkglbaaGreatDoor
open Go.RowKit
set_option linter.unusedVariables false

/-- a bit of a byte -/
theorem bit_and (x s : Nat) (hx : x < 256) : bits .and .u8 ((x : Int) / 2 ^ s) 1 = ((x / 2 ^ s % 2 : Nat) : Int) := by
  have h1 : x / 2 ^ s < 256 := Nat.lt_of_le_of_lt (Nat.div_le_self _ _) hx
  rw [show ((x : Int) / 2 ^ s) = ((x / 2 ^ s : Nat) : Int) from by simp, show (1 : Int) = ((1 : Nat) : Int) from rfl, u8_and_nat _ 1 h1 (by decide), nat_mask1]

set_option maxHeartbeats 1000000 in
theorem rdig_any (va : Value) (l : List Nat) (x c : Int) (w : World) (ha : Row .u8 256 w va l) (hl : l.length ≤ 1000000) :
    Calls Tryz.prog 34 #[va, .int .i64 x, .int .i64 c] w fun e w' => ∃ v, e = .returned v ∧ Own 42 .u32 4294967296 w' w.heap.size v (digS l x c) ∧ Below w.heap.size w w' := by
  have ha' := ha
  obtain ⟨a, ca, rfl, ha1, ha2, ha3, ha4⟩ := ha
  unfold maxLen at ha2
  cases hok : okB l.length x c with
  | false =>
    have hS : digS l x c = [] := by unfold digS; rw [if_neg (by rw [hok]; decide)]
    rw [hS]; clear hS
    go_enter Tryz.func34, Tryz.ntmps34
    go_wp2_with (go_at_call 55; refine (such_any _ l x c _ ha' (by omega)).mono ?_; rintro e w' ⟨rfl, rfl⟩)
    go_ret
    exact ⟨_, rfl, dig_nil _ _ _ _ _, Below.refl _ _⟩
  | true =>
    have hS : digS l x c = digL l x.toNat c.toNat := by unfold digS; rw [if_pos hok]
    rw [hS]; clear hS
    obtain ⟨W, C, rfl, rfl, hW1, hW2, hCW⟩ := okB_of hok
    rw [Int.toNat_natCast, Int.toNat_natCast]
    have hC : C ≤ 8000000 := by
      have : C * 1 ≤ C * W := Nat.mul_le_mul_left C hW1
      omega
    obtain ⟨i0, hi, hz0, hz1, hz2⟩ := info_parts Tryz.info42
    go_enter Tryz.func34, Tryz.ntmps34
    go_wp2_with fail
    refine (such_any _ l W C _ ha' (by omega)).mono ?_
    rintro e w' ⟨rfl, hw'⟩
    rw [hw', hok]
    clear hok hw'
    go_wp2
    go_loopw [7, 8] (fun v i wr => ∃ k : Nat, k ≤ C ∧ i = .int .i64 k ∧
        wr.ownsRow w.heap.size 42 1 v k (vals .u32 (digL l W k)) ∧ Below w.heap.size w wr) (fun _ i _ => C - (intOf i).toNat)
    case atStart => exact ⟨0, Nat.zero_le _, rfl, World.ownsRow_nil _ _ _ _, Below.refl _ _⟩
    case round =>
      obtain ⟨k, hk, rfl, how, hbr⟩ := hrel
      by_cases hlt : k < C
      · have hq : (k + 1) * W ≤ C * W := Nat.mul_le_mul_right W (by omega)
        rw [Nat.add_mul, Nat.one_mul] at hq
        have hPl : k * W + W ≤ 8 * l.length := by omega
        clear hq hCW
        have hPl' : (k : Int) * (W : Int) + W ≤ 8 * l.length := by
          have : ((k * W : Nat) : Int) = (k : Int) * W := by simp
          omega
        have hP0 : 0 ≤ (k : Int) * (W : Int) := Int.mul_nonneg (by omega) (by omega)
        have hc0' := ha3.below hbr (Nat.le_refl _)
        go_wp2
        go_loop [9, 10] (fun n j => ∃ t : Nat, t ≤ W ∧ j = .int .i64 t ∧ n = .int .u32 (digTo l W k t : Nat)) (fun _ j => W - (intOf j).toNat)
        case atStart => exact ⟨0, Nat.zero_le _, rfl, by rw [digTo_zero]; rfl⟩
        case round =>
          obtain ⟨t, ht, rfl, rfl⟩ := hrel
          by_cases hlt2 : t < W
          · have hpl : k * W + t < 8 * l.length := by omega
            obtain ⟨ba, oa, rfl, hca⟩ := hc0' (by omega)
            have c1 := hca ((k * W + t) / 8) (by omega)
            have hx := el_lt ha4 (by decide) ((k * W + t) / 8)
            clear hca
            have hN := digTo_lt l W k t
            have hN2 : digTo l W k t < 16777216 := by
              have := Nat.pow_le_pow_right (show 0 < 2 by decide) (show t ≤ 24 by omega)
              have e : (2 : Nat) ^ 24 = 16777216 := by decide
              omega
            clear hN
            go_wp2
            go_round
            case rel =>
              refine ⟨t + 1, by omega, by go_num, vint ?_⟩
              have hs := digTo_succ l ha4 W k t hpl
              rw [bit_and _ _ hx, ← hs]
              have h2 : el l ((k * W + t) / 8) / 2 ^ (7 - (k * W + t) % 8) % 2 < 2 := Nat.mod_lt _ (by decide)
              generalize el l ((k * W + t) / 8) / 2 ^ (7 - (k * W + t) % 8) % 2 = b at *
              omega
            case measure => simp [intOf]; omega
          · have e : t = W := by omega
            subst e
            rw [digTo_full]
            have hsz := hbr.size
            generalize hD : dig l t k = D at *
            have HD := hide hD
            clear hD
            go_wp2_with (first | (at_builtin; refine wpList_append_own _ rfl _ _ 33 rfl w.heap.size 42 i0 (.int .u32 0) 1 4 Tryz.underlying33 hi hz0 hz1 hz2 rfl (by decide) _ _ _ rfl (how.alloc _) ⟨wr.heap.size, 0, none⟩ 1 1 [.int .u32 D] rfl rfl (cells_new _ _ _) (one_new _ _) (by unfold maxLen; omega) (by omega) (by simp; omega) ?_; intro v' w3 how' hgrow _) | fail)
            have hb3 := below_append hbr hsz how _ hgrow
            clear how hgrow hbr
            go_roundw
            case rel => exact ⟨k + 1, by omega, by go_num, by rw [digL_succ, vals_append, HD.out]; exact how', hb3⟩
            case measure => simp [intOf]; omega
      · go_wp2
        go_ret
        have e : k = C := by omega
        subst e
        exact ⟨_, rfl, ⟨by rw [digL_length]; exact how, digL_under _ _ _ hW2⟩, hbr⟩
end Go.Proofs.YtpmobjfhhkglbaaGreatDoor

/- Keys of chains: the document's wrong and Digits. -/
namespace Go.Proofs.YtpmobjfhhkglbaaGreatDoor
open Go.RowKit
set_option linter.unusedVariables false
set_option linter.unusedSimpArgs false

theorem el_le_ofW {K : Nat} {l : List Nat} (h : ∀ x ∈ l, x < 2 ^ K) (i : Nat) : el l i ≤ 2 ^ K - 1 := by
  by_cases hi : i < l.length
  · rw [el_at hi]; have := h _ (List.getElem_mem hi); omega
  · unfold el; rw [List.getElem?_eq_none (by omega)]; exact Nat.zero_le _
theorem digS_natW (l : List Nat) (w c : Nat) (h1 : 1 ≤ w) (h2 : w ≤ 24) (h3 : c * w ≤ 8 * l.length) : digS l (w : Int) (c : Int) = digL l w c := by
  unfold digS
  rw [if_pos (okB_mk h1 h2 h3)]
  rfl
theorem lack_takeW {m i : Nat} {l : List Nat} (h : i < l.length) : lackL m (l.take (i + 1)) = lackL m (l.take i) + (m - el l i) := by
  rw [List.take_succ_eq_append_getElem h, lack_snoc, el_at h]
theorem below_appW {w x y : World} {n : Nat} {e : TypeId} {v : Value} {xs : List Value} (hb : Below w.heap.size w x) (ho : x.ownsRow w.heap.size e 1 v n xs) (hg : x.grownBy y v.ownBlock) : Below w.heap.size w y :=
  below_append' hb hb.size ho hg
/-- append of digits onto a row of the call's own -/
theorem wpList_app32 {w : World} {ops : Array Oper} {rest : List Oper} {o : Oper} {a : Act} {Q : Exit → Act → World → Prop} (hgd : o.guard = none) (s x : Operand) (ho : o.op = .call { callee := .builtin .append, args := #[s, x], argTypes := #[33, 33] })
    (base : Nat) (v bv : Value) (n : Nat) (l b : List Nat) (hs : a.eval s = v) (hown : w.ownsRow base 42 1 v n (vals .u32 l)) (hx : a.eval x = bv) (rb : Row .u32 4294967296 w bv b) (hb0 : 0 < b.length) (hn : n ≤ 1000000) (hb : b.length ≤ 1000000) (hbase : base ≤ w.heap.size)
    (h : ∀ v' w', w'.ownsRow base 42 1 v' (n + b.length) (vals .u32 (l ++ b)) → w.grownBy w' v.ownBlock → wpList Tryz.prog ops Q rest (a.put o.dst v') w') : wpList Tryz.prog ops Q (o :: rest) a w := by
  obtain ⟨i0, hi, hz0, hz1, hz2⟩ := info_parts Tryz.info42
  obtain ⟨ba, bc, rfl, h1, h2, h3, h4⟩ := rb
  cases ba with
  | none => obtain ⟨_, _, e, _⟩ := h3 hb0; cases e
  | some y =>
    refine wpList_append_own _ hgd s x 33 ho base 42 i0 (.int .u32 0) 1 4 Tryz.underlying33 hi hz0 hz1 hz2 rfl (by decide) _ _ _ hs hown y b.length bc (vals .u32 b) hx (by rw [vals_length, Nat.mul_one]) (cells_news h3) (vals_one _ _) (by unfold maxLen; omega) (by omega) hbase ?_
    intro v' w3 how' hgrow _
    exact h v' w3 (by rw [vals_append]; exact how') hgrow
set_option maxHeartbeats 8000000 in
set_option maxRecDepth 100000 in
theorem rdgW_16 (d : List Nat) (dv : Value) (w : World) (hd : Row .u8 256 w dv d) (td : Tidy dv) (hl : d.length = 16) :
    Calls Tryz.prog 13 #[.int .i64 16, dv] w fun e w' => ∃ v, e = .returned v ∧ Own 42 .u32 4294967296 w' w.heap.size v (dgW 16 d) ∧ Below w.heap.size w w' := by
  obtain ⟨da, dc, rfl, lc1, lc2, _⟩ := hd.opens hl
  have hdig := rdig_any _ d 4 32 w hd (by omega)
  rw [show digS d 4 32 = digL d 4 32 from digS_natW d 4 32 (by decide) (by decide) (by rw [hl]; decide)] at hdig
  have hll : (digL d 4 32).length = 32 := digL_length _ _ _
  have hlt : ∀ i, el (digL d 4 32) i ≤ 15 := fun i => by
    have := el_le_ofW (K := 4) (digL_lt d 32) i
    omega
  obtain ⟨L, hL⟩ : ∃ L, L = digL d 4 32 := ⟨_, rfl⟩
  have hC : chkW 16 d = lackL 15 L := by unfold chkW; rw [hL]
  have hDs : dgW 16 d = L ++ digL (be2 (16 * lackL 15 L)) 4 3 := by unfold dgW; rw [hC, hL]
  rw [hDs]
  rw [← hL] at hdig hll hlt
  have hsumb : ∀ i, lackL 15 (L.take i) ≤ 960 := fun i => by
    have h1 := lack_lt 15 (L.take i)
    rw [List.length_take, hll] at h1
    exact Nat.le_trans h1 (Nat.le_trans (Nat.mul_le_mul_right _ (Nat.min_le_right _ _)) (by decide))
  obtain ⟨SM, hSM⟩ : ∃ x : Nat, x = lackL 15 L := ⟨_, rfl⟩
  have hSMb : SM ≤ 960 := by rw [hSM]; have := hsumb 32; rwa [List.take_of_length_le (by omega)] at this
  rw [← hSM]
  obtain ⟨SH, hSH⟩ : ∃ x : Nat, x = 16 * SM := ⟨_, rfl⟩
  rw [← hSH]
  have e_SH : (16 : Int) * (SM : Int) = (SH : Int) := by omega
  have s_SH : IntKind.u64.wrap (SH : Int) = (SH : Int) := by rw [IntKind.wrap_u64]; omega
  have h2 := fun y => rbe2 SH y (by omega)
  have h3 := fun y v (r : Row .u8 256 y v (be2 SH)) => rdig_any v (be2 SH) 4 3 y r (by rw [be2_len]; decide)
  rw [show digS (be2 SH) 4 3 = digL (be2 SH) 4 3 from digS_natW (be2 SH) 4 3 (by decide) (by decide) (by rw [be2_len]; decide)] at h3
  have h3l : (digL (be2 SH) 4 3).length = 3 := digL_length _ _ _
  have hLu : Under 4294967296 (L ++ digL (be2 SH) 4 3) := fun x hx => by
    rcases List.mem_append.1 hx with h | h
    · rw [hL] at h; have := digL_lt _ _ x h; omega
    · have := digL_lt _ _ x h; omega
  obtain ⟨D3, hD3⟩ : ∃ x, x = digL (be2 SH) 4 3 := ⟨_, rfl⟩
  rw [← hD3] at h3 h3l hLu ⊢
  have HX := hide (And.intro hSM (And.intro hSH (And.intro hll (And.intro hsumb (And.intro hlt (And.intro h3l (And.intro hLu hSMb)))))))
  have g2 := be2_len SH
  generalize be2 SH = BE at *
  have HG := hide g2
  clear hC hDs hL hSM hSH hsumb hlt h3l hD3 hLu hd td hl lc1 lc2 g2 hSMb
  go_enter Tryz.func13, Tryz.ntmps13
  go_wp2_with (first
    | (go_at_call 34; refine hdig.mono ?_; rintro e w3 ⟨v3, rfl, o3, hb3⟩; obtain ⟨a3, c3, rfl, _, _, ho3⟩ := o3.row.opens hll)
    | fail)
  obtain ⟨b3, f3, rfl, hc3⟩ := ho3 (by decide)
  have HO := hide (And.intro o3 hb3)
  have HC := hide hc3
  clear ho3 o3 hb3 hc3 hdig hll
  go_loopw [6, 7] (fun vs vi wr => ∃ i : Nat, i ≤ 32 ∧ vi = .int .i64 (i : Int) ∧ vs = .int .u64 ((lackL 15 (L.take i) : Nat) : Int) ∧ Below w3.heap.size w3 wr) (fun _ vi _ => 32 - (intOf vi).toNat)
  case atStart => exact ⟨0, Nat.zero_le _, rfl, rfl, Below.refl _ _⟩
  case round =>
    obtain ⟨i, hi, rfl, rfl, hbr⟩ := hrel
    rename World => wr
    obtain ⟨hSM, hSH, hll, hsumb, hlt, h3l, hLu, hSMb⟩ := HX.out
    by_cases hin : i < 32
    · have hii : (i : Int) < 32 := by omega
      have z_i : (0 : Int) ≤ (i : Int) := Int.natCast_nonneg _
      have ci : wr.cell? ⟨b3, f3 + i, none⟩ = some (.int .u32 (el L i)) := keep_cell (HC.out i (by omega)) hbr
      have hei := hlt i
      obtain ⟨X, hX⟩ : ∃ X : Nat, X = lackL 15 (L.take i) := ⟨_, rfl⟩
      have hXb : X ≤ 960 := by rw [hX]; exact hsumb i
      rw [← hX]
      obtain ⟨D, hD⟩ : ∃ D : Nat, D = el L i := ⟨_, rfl⟩
      rw [← hD] at ci hei
      obtain ⟨Y, hY⟩ : ∃ Y : Nat, Y = X + 15 := ⟨_, rfl⟩
      obtain ⟨Z, hZ⟩ : ∃ Z : Nat, Z = X + (15 - D) := ⟨_, rfl⟩
      have e_Y : (X : Int) + 15 = (Y : Int) := by omega
      have s_Y : IntKind.u64.wrap (Y : Int) = (Y : Int) := by rw [IntKind.wrap_u64]; omega
      have u_D : IntKind.u64.wrap (D : Int) = (D : Int) := by rw [IntKind.wrap_u64]; omega
      have e_Z : (Y : Int) - (D : Int) = (Z : Int) := by omega
      have s_Z : IntKind.u64.wrap (Z : Int) = (Z : Int) := by rw [IntKind.wrap_u64]; omega
      obtain ⟨I, hI⟩ : ∃ I : Nat, I = i + 1 := ⟨_, rfl⟩
      have e_I : (i : Int) + 1 = (I : Int) := by omega
      have s_I : IntKind.i64.wrap (I : Int) = (I : Int) := by rw [IntKind.wrap_i64]; omega
      have HK := hide (And.intro hX (And.intro hD (And.intro hZ (And.intro hI (And.intro hbr (And.intro hin hei))))))
      clear hX hD hY hZ hI hbr hin hei hXb hSM hSH hll hsumb hlt h3l hLu hSMb hi
      go_wp2
      obtain ⟨hX, hD, hZ, hI, hbr, hin, hei⟩ := HK.out
      refine ⟨⟨i + 1, by omega, vint (by omega), ?_, hbr⟩, by simp [intOf]; omega⟩
      rw [lack_takeW (by rw [HX.out.2.2.1]; exact hin), ← hX, ← hD, hZ]
    · obtain rfl : i = 32 := by omega
      have ht : L.take 32 = L := List.take_of_length_le (by omega)
      rw [ht, ← hSM]
      have oL : wr.ownsRow w.heap.size 42 1 (.slice (some ⟨b3, f3, none⟩) 32 c3) 32 (vals .u32 L) := by
        have := own_belowA HO.out.1.1 hbr
        rwa [hll] at this
      have hw3 := keep_trans HO.out.2 hbr
      have HK := hide (And.intro hbr hLu)
      clear hSM hSH hsumb hlt ht hbr hLu hll hSMb
      go_wp2_with (first
        | (go_at_call 30; refine (h2 _).mono ?_; rintro e w4 ⟨v4, rfl, o4, g4⟩; obtain ⟨a4, c4, rfl, _⟩ := o4.row.opens HG.out)
        | (go_at_call 34; refine (h3 _ _ o4.row).mono ?_; rintro e w5 ⟨v5, rfl, o5, g5⟩; have oL5 := own_belowA oL (keep_trans g4 g5); have hw5 := keep_trans hw3 (keep_trans g4 g5))
        | (refine wpList_app32 rfl _ _ (by rfl) w.heap.size _ v5 32 L D3 (by rfl) oL5 (by rfl) o5.row (by rw [h3l]; decide) (by decide) (by rw [h3l]; decide) hw5.size ?_; intro v6 w6 ow6 gr6)
        | fail)
      go_ret
      rw [h3l] at ow6
      exact ⟨_, rfl, ⟨by rw [List.length_append, HX.out.2.2.1, h3l]; exact ow6, HK.out.2⟩, below_appW hw5 oL5 gr6⟩
set_option maxHeartbeats 8000000 in
set_option maxRecDepth 100000 in
theorem rdgW_24 (d : List Nat) (dv : Value) (w : World) (hd : Row .u8 256 w dv d) (td : Tidy dv) (hl : d.length = 24) :
    Calls Tryz.prog 13 #[.int .i64 24, dv] w fun e w' => ∃ v, e = .returned v ∧ Own 42 .u32 4294967296 w' w.heap.size v (dgW 24 d) ∧ Below w.heap.size w w' := by
  obtain ⟨da, dc, rfl, lc1, lc2, _⟩ := hd.opens hl
  have hdig := rdig_any _ d 4 48 w hd (by omega)
  rw [show digS d 4 48 = digL d 4 48 from digS_natW d 4 48 (by decide) (by decide) (by rw [hl]; decide)] at hdig
  have hll : (digL d 4 48).length = 48 := digL_length _ _ _
  have hlt : ∀ i, el (digL d 4 48) i ≤ 15 := fun i => by
    have := el_le_ofW (K := 4) (digL_lt d 48) i
    omega
  obtain ⟨L, hL⟩ : ∃ L, L = digL d 4 48 := ⟨_, rfl⟩
  have hC : chkW 24 d = lackL 15 L := by unfold chkW; rw [hL]
  have hDs : dgW 24 d = L ++ digL (be2 (16 * lackL 15 L)) 4 3 := by unfold dgW; rw [hC, hL]
  rw [hDs]
  rw [← hL] at hdig hll hlt
  have hsumb : ∀ i, lackL 15 (L.take i) ≤ 960 := fun i => by
    have h1 := lack_lt 15 (L.take i)
    rw [List.length_take, hll] at h1
    exact Nat.le_trans h1 (Nat.le_trans (Nat.mul_le_mul_right _ (Nat.min_le_right _ _)) (by decide))
  obtain ⟨SM, hSM⟩ : ∃ x : Nat, x = lackL 15 L := ⟨_, rfl⟩
  have hSMb : SM ≤ 960 := by rw [hSM]; have := hsumb 48; rwa [List.take_of_length_le (by omega)] at this
  rw [← hSM]
  obtain ⟨SH, hSH⟩ : ∃ x : Nat, x = 16 * SM := ⟨_, rfl⟩
  rw [← hSH]
  have e_SH : (16 : Int) * (SM : Int) = (SH : Int) := by omega
  have s_SH : IntKind.u64.wrap (SH : Int) = (SH : Int) := by rw [IntKind.wrap_u64]; omega
  have h2 := fun y => rbe2 SH y (by omega)
  have h3 := fun y v (r : Row .u8 256 y v (be2 SH)) => rdig_any v (be2 SH) 4 3 y r (by rw [be2_len]; decide)
  rw [show digS (be2 SH) 4 3 = digL (be2 SH) 4 3 from digS_natW (be2 SH) 4 3 (by decide) (by decide) (by rw [be2_len]; decide)] at h3
  have h3l : (digL (be2 SH) 4 3).length = 3 := digL_length _ _ _
  have hLu : Under 4294967296 (L ++ digL (be2 SH) 4 3) := fun x hx => by
    rcases List.mem_append.1 hx with h | h
    · rw [hL] at h; have := digL_lt _ _ x h; omega
    · have := digL_lt _ _ x h; omega
  obtain ⟨D3, hD3⟩ : ∃ x, x = digL (be2 SH) 4 3 := ⟨_, rfl⟩
  rw [← hD3] at h3 h3l hLu ⊢
  have HX := hide (And.intro hSM (And.intro hSH (And.intro hll (And.intro hsumb (And.intro hlt (And.intro h3l (And.intro hLu hSMb)))))))
  have g2 := be2_len SH
  generalize be2 SH = BE at *
  have HG := hide g2
  clear hC hDs hL hSM hSH hsumb hlt h3l hD3 hLu hd td hl lc1 lc2 g2 hSMb
  go_enter Tryz.func13, Tryz.ntmps13
  go_wp2_with (first
    | (go_at_call 34; refine hdig.mono ?_; rintro e w3 ⟨v3, rfl, o3, hb3⟩; obtain ⟨a3, c3, rfl, _, _, ho3⟩ := o3.row.opens hll)
    | fail)
  obtain ⟨b3, f3, rfl, hc3⟩ := ho3 (by decide)
  have HO := hide (And.intro o3 hb3)
  have HC := hide hc3
  clear ho3 o3 hb3 hc3 hdig hll
  go_loopw [6, 7] (fun vs vi wr => ∃ i : Nat, i ≤ 48 ∧ vi = .int .i64 (i : Int) ∧ vs = .int .u64 ((lackL 15 (L.take i) : Nat) : Int) ∧ Below w3.heap.size w3 wr) (fun _ vi _ => 48 - (intOf vi).toNat)
  case atStart => exact ⟨0, Nat.zero_le _, rfl, rfl, Below.refl _ _⟩
  case round =>
    obtain ⟨i, hi, rfl, rfl, hbr⟩ := hrel
    rename World => wr
    obtain ⟨hSM, hSH, hll, hsumb, hlt, h3l, hLu, hSMb⟩ := HX.out
    by_cases hin : i < 48
    · have hii : (i : Int) < 48 := by omega
      have z_i : (0 : Int) ≤ (i : Int) := Int.natCast_nonneg _
      have ci : wr.cell? ⟨b3, f3 + i, none⟩ = some (.int .u32 (el L i)) := keep_cell (HC.out i (by omega)) hbr
      have hei := hlt i
      obtain ⟨X, hX⟩ : ∃ X : Nat, X = lackL 15 (L.take i) := ⟨_, rfl⟩
      have hXb : X ≤ 960 := by rw [hX]; exact hsumb i
      rw [← hX]
      obtain ⟨D, hD⟩ : ∃ D : Nat, D = el L i := ⟨_, rfl⟩
      rw [← hD] at ci hei
      obtain ⟨Y, hY⟩ : ∃ Y : Nat, Y = X + 15 := ⟨_, rfl⟩
      obtain ⟨Z, hZ⟩ : ∃ Z : Nat, Z = X + (15 - D) := ⟨_, rfl⟩
      have e_Y : (X : Int) + 15 = (Y : Int) := by omega
      have s_Y : IntKind.u64.wrap (Y : Int) = (Y : Int) := by rw [IntKind.wrap_u64]; omega
      have u_D : IntKind.u64.wrap (D : Int) = (D : Int) := by rw [IntKind.wrap_u64]; omega
      have e_Z : (Y : Int) - (D : Int) = (Z : Int) := by omega
      have s_Z : IntKind.u64.wrap (Z : Int) = (Z : Int) := by rw [IntKind.wrap_u64]; omega
      obtain ⟨I, hI⟩ : ∃ I : Nat, I = i + 1 := ⟨_, rfl⟩
      have e_I : (i : Int) + 1 = (I : Int) := by omega
      have s_I : IntKind.i64.wrap (I : Int) = (I : Int) := by rw [IntKind.wrap_i64]; omega
      have HK := hide (And.intro hX (And.intro hD (And.intro hZ (And.intro hI (And.intro hbr (And.intro hin hei))))))
      clear hX hD hY hZ hI hbr hin hei hXb hSM hSH hll hsumb hlt h3l hLu hSMb hi
      go_wp2
      obtain ⟨hX, hD, hZ, hI, hbr, hin, hei⟩ := HK.out
      refine ⟨⟨i + 1, by omega, vint (by omega), ?_, hbr⟩, by simp [intOf]; omega⟩
      rw [lack_takeW (by rw [HX.out.2.2.1]; exact hin), ← hX, ← hD, hZ]
    · obtain rfl : i = 48 := by omega
      have ht : L.take 48 = L := List.take_of_length_le (by omega)
      rw [ht, ← hSM]
      have oL : wr.ownsRow w.heap.size 42 1 (.slice (some ⟨b3, f3, none⟩) 48 c3) 48 (vals .u32 L) := by
        have := own_belowA HO.out.1.1 hbr
        rwa [hll] at this
      have hw3 := keep_trans HO.out.2 hbr
      have HK := hide (And.intro hbr hLu)
      clear hSM hSH hsumb hlt ht hbr hLu hll hSMb
      go_wp2_with (first
        | (go_at_call 30; refine (h2 _).mono ?_; rintro e w4 ⟨v4, rfl, o4, g4⟩; obtain ⟨a4, c4, rfl, _⟩ := o4.row.opens HG.out)
        | (go_at_call 34; refine (h3 _ _ o4.row).mono ?_; rintro e w5 ⟨v5, rfl, o5, g5⟩; have oL5 := own_belowA oL (keep_trans g4 g5); have hw5 := keep_trans hw3 (keep_trans g4 g5))
        | (refine wpList_app32 rfl _ _ (by rfl) w.heap.size _ v5 48 L D3 (by rfl) oL5 (by rfl) o5.row (by rw [h3l]; decide) (by decide) (by rw [h3l]; decide) hw5.size ?_; intro v6 w6 ow6 gr6)
        | fail)
      go_ret
      rw [h3l] at ow6
      exact ⟨_, rfl, ⟨by rw [List.length_append, HX.out.2.2.1, h3l]; exact ow6, HK.out.2⟩, below_appW hw5 oL5 gr6⟩
set_option maxHeartbeats 8000000 in
set_option maxRecDepth 100000 in
theorem rdgW_32 (d : List Nat) (dv : Value) (w : World) (hd : Row .u8 256 w dv d) (td : Tidy dv) (hl : d.length = 32) :
    Calls Tryz.prog 13 #[.int .i64 32, dv] w fun e w' => ∃ v, e = .returned v ∧ Own 42 .u32 4294967296 w' w.heap.size v (dgW 32 d) ∧ Below w.heap.size w w' := by
  obtain ⟨da, dc, rfl, lc1, lc2, _⟩ := hd.opens hl
  have hdig := rdig_any _ d 4 64 w hd (by omega)
  rw [show digS d 4 64 = digL d 4 64 from digS_natW d 4 64 (by decide) (by decide) (by rw [hl]; decide)] at hdig
  have hll : (digL d 4 64).length = 64 := digL_length _ _ _
  have hlt : ∀ i, el (digL d 4 64) i ≤ 15 := fun i => by
    have := el_le_ofW (K := 4) (digL_lt d 64) i
    omega
  obtain ⟨L, hL⟩ : ∃ L, L = digL d 4 64 := ⟨_, rfl⟩
  have hC : chkW 32 d = lackL 15 L := by unfold chkW; rw [hL]
  have hDs : dgW 32 d = L ++ digL (be2 (16 * lackL 15 L)) 4 3 := by unfold dgW; rw [hC, hL]
  rw [hDs]
  rw [← hL] at hdig hll hlt
  have hsumb : ∀ i, lackL 15 (L.take i) ≤ 960 := fun i => by
    have h1 := lack_lt 15 (L.take i)
    rw [List.length_take, hll] at h1
    exact Nat.le_trans h1 (Nat.le_trans (Nat.mul_le_mul_right _ (Nat.min_le_right _ _)) (by decide))
  obtain ⟨SM, hSM⟩ : ∃ x : Nat, x = lackL 15 L := ⟨_, rfl⟩
  have hSMb : SM ≤ 960 := by rw [hSM]; have := hsumb 64; rwa [List.take_of_length_le (by omega)] at this
  rw [← hSM]
  obtain ⟨SH, hSH⟩ : ∃ x : Nat, x = 16 * SM := ⟨_, rfl⟩
  rw [← hSH]
  have e_SH : (16 : Int) * (SM : Int) = (SH : Int) := by omega
  have s_SH : IntKind.u64.wrap (SH : Int) = (SH : Int) := by rw [IntKind.wrap_u64]; omega
  have h2 := fun y => rbe2 SH y (by omega)
  have h3 := fun y v (r : Row .u8 256 y v (be2 SH)) => rdig_any v (be2 SH) 4 3 y r (by rw [be2_len]; decide)
  rw [show digS (be2 SH) 4 3 = digL (be2 SH) 4 3 from digS_natW (be2 SH) 4 3 (by decide) (by decide) (by rw [be2_len]; decide)] at h3
  have h3l : (digL (be2 SH) 4 3).length = 3 := digL_length _ _ _
  have hLu : Under 4294967296 (L ++ digL (be2 SH) 4 3) := fun x hx => by
    rcases List.mem_append.1 hx with h | h
    · rw [hL] at h; have := digL_lt _ _ x h; omega
    · have := digL_lt _ _ x h; omega
  obtain ⟨D3, hD3⟩ : ∃ x, x = digL (be2 SH) 4 3 := ⟨_, rfl⟩
  rw [← hD3] at h3 h3l hLu ⊢
  have HX := hide (And.intro hSM (And.intro hSH (And.intro hll (And.intro hsumb (And.intro hlt (And.intro h3l (And.intro hLu hSMb)))))))
  have g2 := be2_len SH
  generalize be2 SH = BE at *
  have HG := hide g2
  clear hC hDs hL hSM hSH hsumb hlt h3l hD3 hLu hd td hl lc1 lc2 g2 hSMb
  go_enter Tryz.func13, Tryz.ntmps13
  go_wp2_with (first
    | (go_at_call 34; refine hdig.mono ?_; rintro e w3 ⟨v3, rfl, o3, hb3⟩; obtain ⟨a3, c3, rfl, _, _, ho3⟩ := o3.row.opens hll)
    | fail)
  obtain ⟨b3, f3, rfl, hc3⟩ := ho3 (by decide)
  have HO := hide (And.intro o3 hb3)
  have HC := hide hc3
  clear ho3 o3 hb3 hc3 hdig hll
  go_loopw [6, 7] (fun vs vi wr => ∃ i : Nat, i ≤ 64 ∧ vi = .int .i64 (i : Int) ∧ vs = .int .u64 ((lackL 15 (L.take i) : Nat) : Int) ∧ Below w3.heap.size w3 wr) (fun _ vi _ => 64 - (intOf vi).toNat)
  case atStart => exact ⟨0, Nat.zero_le _, rfl, rfl, Below.refl _ _⟩
  case round =>
    obtain ⟨i, hi, rfl, rfl, hbr⟩ := hrel
    rename World => wr
    obtain ⟨hSM, hSH, hll, hsumb, hlt, h3l, hLu, hSMb⟩ := HX.out
    by_cases hin : i < 64
    · have hii : (i : Int) < 64 := by omega
      have z_i : (0 : Int) ≤ (i : Int) := Int.natCast_nonneg _
      have ci : wr.cell? ⟨b3, f3 + i, none⟩ = some (.int .u32 (el L i)) := keep_cell (HC.out i (by omega)) hbr
      have hei := hlt i
      obtain ⟨X, hX⟩ : ∃ X : Nat, X = lackL 15 (L.take i) := ⟨_, rfl⟩
      have hXb : X ≤ 960 := by rw [hX]; exact hsumb i
      rw [← hX]
      obtain ⟨D, hD⟩ : ∃ D : Nat, D = el L i := ⟨_, rfl⟩
      rw [← hD] at ci hei
      obtain ⟨Y, hY⟩ : ∃ Y : Nat, Y = X + 15 := ⟨_, rfl⟩
      obtain ⟨Z, hZ⟩ : ∃ Z : Nat, Z = X + (15 - D) := ⟨_, rfl⟩
      have e_Y : (X : Int) + 15 = (Y : Int) := by omega
      have s_Y : IntKind.u64.wrap (Y : Int) = (Y : Int) := by rw [IntKind.wrap_u64]; omega
      have u_D : IntKind.u64.wrap (D : Int) = (D : Int) := by rw [IntKind.wrap_u64]; omega
      have e_Z : (Y : Int) - (D : Int) = (Z : Int) := by omega
      have s_Z : IntKind.u64.wrap (Z : Int) = (Z : Int) := by rw [IntKind.wrap_u64]; omega
      obtain ⟨I, hI⟩ : ∃ I : Nat, I = i + 1 := ⟨_, rfl⟩
      have e_I : (i : Int) + 1 = (I : Int) := by omega
      have s_I : IntKind.i64.wrap (I : Int) = (I : Int) := by rw [IntKind.wrap_i64]; omega
      have HK := hide (And.intro hX (And.intro hD (And.intro hZ (And.intro hI (And.intro hbr (And.intro hin hei))))))
      clear hX hD hY hZ hI hbr hin hei hXb hSM hSH hll hsumb hlt h3l hLu hSMb hi
      go_wp2
      obtain ⟨hX, hD, hZ, hI, hbr, hin, hei⟩ := HK.out
      refine ⟨⟨i + 1, by omega, vint (by omega), ?_, hbr⟩, by simp [intOf]; omega⟩
      rw [lack_takeW (by rw [HX.out.2.2.1]; exact hin), ← hX, ← hD, hZ]
    · obtain rfl : i = 64 := by omega
      have ht : L.take 64 = L := List.take_of_length_le (by omega)
      rw [ht, ← hSM]
      have oL : wr.ownsRow w.heap.size 42 1 (.slice (some ⟨b3, f3, none⟩) 64 c3) 64 (vals .u32 L) := by
        have := own_belowA HO.out.1.1 hbr
        rwa [hll] at this
      have hw3 := keep_trans HO.out.2 hbr
      have HK := hide (And.intro hbr hLu)
      clear hSM hSH hsumb hlt ht hbr hLu hll hSMb
      go_wp2_with (first
        | (go_at_call 30; refine (h2 _).mono ?_; rintro e w4 ⟨v4, rfl, o4, g4⟩; obtain ⟨a4, c4, rfl, _⟩ := o4.row.opens HG.out)
        | (go_at_call 34; refine (h3 _ _ o4.row).mono ?_; rintro e w5 ⟨v5, rfl, o5, g5⟩; have oL5 := own_belowA oL (keep_trans g4 g5); have hw5 := keep_trans hw3 (keep_trans g4 g5))
        | (refine wpList_app32 rfl _ _ (by rfl) w.heap.size _ v5 64 L D3 (by rfl) oL5 (by rfl) o5.row (by rw [h3l]; decide) (by decide) (by rw [h3l]; decide) hw5.size ?_; intro v6 w6 ow6 gr6)
        | fail)
      go_ret
      rw [h3l] at ow6
      exact ⟨_, rfl, ⟨by rw [List.length_append, HX.out.2.2.1, h3l]; exact ow6, HK.out.2⟩, below_appW hw5 oL5 gr6⟩

end Go.Proofs.YtpmobjfhhkglbaaGreatDoor
