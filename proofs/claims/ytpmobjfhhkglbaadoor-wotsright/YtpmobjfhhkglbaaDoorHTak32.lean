/- Contract of sha.sum.take at words of 32 bits. -/
import Derived.Test.YtpmobjfhhkglbaaDoorHSl
import Derived.Test.YtpmobjfhhkglbaaDoorHSpr32
import Derived.Test.YtpmobjfhhkglbaaDoorHHsh
import Derived.Test.YtpmobjfhhkglbaaDoorBase
import Derived.Test.YtpmobjfhhkglbaaDoorWtM
import Derived.Laws.AppendOwnNone
import Derived.Test.YtpmobjfhhkglbaaDoorHTur32
namespace Go.Proofs.YtpmobjfhhkglbaaDoor
open Go.RowKit
set_option linter.unusedVariables false
set_option linter.unusedSimpArgs false

set_option maxHeartbeats 4000000 in
set_option maxRecDepth 100000 in
theorem take_any32 (g : Nat) (hs l : List Nat) (v : Value) (w : World) (hS : Sm32 w g hs (ks false)) (h8 : hs.length = 8) (hhu : Under 4294967296 hs) (hR : Row .u8 256 w v l) (ha : Away g v l) (ht : Tidy v) (hl : l.length ≤ 1000000) :
    Calls Tryd.prog 72 #[.pointer (some ⟨g, 0, none⟩), v] w fun e w' => (∃ v', e = .returned v' ∧ Row .u8 256 w' v' (left false l) ∧ Away g v' (left false l) ∧ Tidy v') ∧ Sm32 w' g (eat false hs l) (ks false) ∧ But g w w' := by
  go_enter Tryd.func72, Tryd.ntmps72
  go_wp2
  go_loopw [1] (fun u wr => ∃ (L H : List Nat), L.length ≤ l.length ∧ slen u = L.length ∧ Row .u8 256 wr u L ∧ Away g u L ∧ Tidy u ∧ Sm32 wr g H (ks false) ∧ But g w wr ∧ eat false hs l = eat false H L ∧ left false l = left false L ∧ H.length = 8 ∧ Under 4294967296 H) (fun u _ => slen u)
  case atStart => exact ⟨l, hs, Nat.le_refl _, by obtain ⟨a, c, rfl, _⟩ := hR; rfl, hR, ha, ht, hS, But.refl _ _, rfl, rfl, h8, hhu⟩
  case round =>
    obtain ⟨L, H, hLl, hsl, hRL, hAL, hTL, hSL, hBL, hE, hLf, hH8, hHu⟩ := hrel
    have HE := hide hE
    have HF := hide hLf
    have hlu := hRL.under
    clear hE hLf
    obtain ⟨a, cap, rfl, g1, g2, g3, g4⟩ := hRL
    have hRL : Row .u8 256 wr (.slice a L.length cap) L := ⟨a, cap, rfl, g1, g2, g3, g4⟩
    unfold maxLen at g2
    by_cases hlt : 64 ≤ L.length
    · obtain ⟨bb, off, rfl, hc⟩ := g3 (by omega)
      clear hc g3
      have hRt := hRL.cut (M := 64) hlt
      go_wp2_with fail
      refine (block_any32 _ _).mono ?_
      rintro e w1 ⟨rfl, rfl⟩
      go_wp2_with fail
      refine (block_any32 _ _).mono ?_
      rintro e w2 ⟨rfl, rfl⟩
      go_wp2_with fail
      refine (spread_any32 _ _ _ hRt (by rw [List.length_take]; omega)).mono ?_
      rintro e w3 ⟨rfl, hb3⟩
      have hS3 := hSL.below hb3
      have hsch := sched_under (b := false) (hlu.take 64) 48
      go_wp2_with fail
      refine (mix_any32 g H (ks false) _ w3 hS3 hH8 (ks_length false) (pad_length (by rw [sched_length]; decide)) hHu (ks_under false) (pad_under hsch (by decide))).mono ?_
      rintro e w4 ⟨rfl, hS4, hB4⟩
      have hcp : addW false H (rndN false (ks false) (pad 80 (sched false (L.take 64) 48)) (rn false) H) 8 = comp false H (L.take 64) := comp_pad H _
      rw [hcp] at hS4
      clear hcp
      go_wp2_with fail
      refine (block_any32 _ _).mono ?_
      rintro e w5 ⟨rfl, rfl⟩
      go_wp2
      have hif : (if cap = 64 then some (⟨bb, off, none⟩ : Addr) else some ⟨bb, off + 64, none⟩) = some ⟨bb, off, none⟩ ∧ cap = 64 ∨ (if cap = 64 then some (⟨bb, off, none⟩ : Addr) else some ⟨bb, off + 64, none⟩) = some ⟨bb, off + 64, none⟩ := by
        by_cases h : cap = 64
        · exact .inl ⟨if_pos h, h⟩
        · exact .inr (if_neg h)
      generalize (if cap = 64 then some (⟨bb, off, none⟩ : Addr) else some ⟨bb, off + 64, none⟩) = A at *
      have hbz : bz false = 64 := rfl
      have hdl : (L.drop 64).length = L.length - 64 := List.length_drop
      refine ⟨⟨L.drop 64, comp false H (L.take 64), by omega, by simp [slen], ((hRL.below hb3).but hAL hB4).rest hlt A hif, fun hp q hq => ?_, ?_, hS4, (hBL.trans (But.of_below hb3)).trans hB4, ?_, ?_, comp_length _ _ _, comp_under _ _ _⟩, by simp [slen]; omega⟩
      · refine hAL (by omega) q ?_
        rcases hif with ⟨rfl, _⟩ | rfl
        · exact hq
        · simpa [Value.ownBlock] using hq
      · rcases hif with ⟨rfl, _⟩ | rfl <;> exact tidy_at _ _ _
      · rw [HE.out, eat_step (by rw [hbz]; exact hlt), hbz]
      · rw [HF.out, left_step (by rw [hbz]; exact hlt), hbz]
    · go_wp2_with fail
      refine (block_any32 _ _).mono ?_
      rintro e w1 ⟨rfl, rfl⟩
      go_wp2
      go_ret
      exact ⟨⟨_, rfl, by rw [HF.out, left_short (by show _ < 64; omega)]; exact hRL, by rw [HF.out, left_short (by show _ < 64; omega)]; exact hAL, hTL⟩, by rw [HE.out, eat_short (by show _ < 64; omega)]; exact hSL, hBL⟩
end Go.Proofs.YtpmobjfhhkglbaaDoor

/- Contracts of the small helpers: room, isWidth, holds, such, lowest, packedSize. -/
namespace Go.Proofs.YtpmobjfhhkglbaaDoor
open Go.RowKit
set_option linter.unusedVariables false

/-- may so many numbers of so many bits be in a text of so many bytes? -/
def okB (len : Nat) (w c : Int) : Bool := decide (1 ≤ w ∧ w ≤ 24 ∧ 0 ≤ c ∧ c ≤ (len : Int) * 8 / w)

theorem okB_of {len : Nat} {w c : Int} (h : okB len w c = true) : ∃ W C : Nat, w = W ∧ c = C ∧ 1 ≤ W ∧ W ≤ 24 ∧ C * W ≤ 8 * len := by
  unfold okB at h
  have h := of_decide_eq_true h
  obtain ⟨W, rfl⟩ := Int.eq_ofNat_of_zero_le (show 0 ≤ w by omega)
  obtain ⟨C, rfl⟩ := Int.eq_ofNat_of_zero_le h.2.2.1
  refine ⟨W, C, rfl, rfl, by omega, by omega, ?_⟩
  have h4 := h.2.2.2
  have h5 : C ≤ len * 8 / W := by
    have : ((len : Int) * 8 / (W : Int)) = ((len * 8 / W : Nat) : Int) := by simp
    omega
  have h6 : C * W ≤ len * 8 / W * W := Nat.mul_le_mul_right W h5
  have h7 : len * 8 / W * W ≤ len * 8 := Nat.div_mul_le_self _ _
  omega
theorem okB_mk {len W C : Nat} (h1 : 1 ≤ W) (h2 : W ≤ 24) (h : C * W ≤ 8 * len) : okB len (W : Int) (C : Int) = true := by
  unfold okB
  refine decide_eq_true ⟨by omega, by omega, by omega, ?_⟩
  have : ((len : Int) * 8 / (W : Int)) = ((len * 8 / W : Nat) : Int) := by simp
  rw [this]
  have h3 : C ≤ len * 8 / W := (Nat.le_div_iff_mul_le (by omega)).2 (by omega)
  omega

set_option maxHeartbeats 400000 in
theorem isWidth_any (x : Int) (w : World) : Calls Tryd.prog 37 #[.int .i64 x] w fun e w' => e = .returned (.bool (decide (1 ≤ x ∧ x ≤ 24))) ∧ w' = w := by
  by_cases h1 : 1 ≤ x
  · by_cases h2 : x ≤ 24
    · go_enter Tryd.func37, Tryd.ntmps37
      go_wp2
      go_ret
      exact ⟨ret_bool (by simp [h1, h2]), rfl⟩
    · go_enter Tryd.func37, Tryd.ntmps37
      go_wp2
      go_ret
      exact ⟨ret_bool (by symm; apply decide_eq_false; omega), rfl⟩
  · go_enter Tryd.func37, Tryd.ntmps37
    go_wp2
    go_ret
    exact ⟨ret_bool (by simp; intro _; omega), rfl⟩

set_option maxHeartbeats 400000 in
theorem holds_any (va : Value) (l : List Nat) (x c : Int) (w : World) (ha : Row .u8 256 w va l) (hl : l.length ≤ 140737488355328)
    (hc0 : -9223372036854775808 ≤ c) (hc1 : c ≤ 9223372036854775807) :
    Calls Tryd.prog 28 #[va, .int .i64 x, .int .i64 c] w fun e w' => e = .returned (.bool (okB l.length x c)) ∧ w' = w := by
  obtain ⟨a, ca, rfl, ha1, ha2, ha3, ha4⟩ := ha
  unfold maxLen at ha2
  by_cases h1 : 1 ≤ x ∧ x ≤ 24
  · have hd : decide (1 ≤ x ∧ x ≤ 24) = true := by simp [h1]
    obtain ⟨h1, h2⟩ := h1
    by_cases h3 : c < 0
    · go_enter Tryd.func28, Tryd.ntmps28
      go_wp2_with (go_at_call 37; refine (isWidth_any _ _).mono ?_; rintro e w' ⟨rfl, rfl⟩)
      go_ret
      exact ⟨ret_bool (by unfold okB; symm; apply decide_eq_false; omega), rfl⟩
    · have h3' : 0 ≤ c := by omega
      go_enter Tryd.func28, Tryd.ntmps28
      go_wp2_with (go_at_call 37; refine (isWidth_any _ _).mono ?_; rintro e w' ⟨rfl, rfl⟩)
      go_ret
      exact ⟨ret_bool (by unfold okB; simp [h1, h2, h3']), rfl⟩
  · have hd : decide (1 ≤ x ∧ x ≤ 24) = false := decide_eq_false h1
    go_enter Tryd.func28, Tryd.ntmps28
    go_wp2_with (go_at_call 37; refine (isWidth_any _ _).mono ?_; rintro e w' ⟨rfl, rfl⟩)
    go_ret
    exact ⟨ret_bool (by unfold okB; symm; apply decide_eq_false; omega), rfl⟩

theorem mask_and (n W : Nat) (hn : n < 4294967296) (hW : W ≤ 24) : bits BinOp.and IntKind.u32 (n : Int) ((2 ^ W - 1) % 4294967296) = ((n % 2 ^ W : Nat) : Int) := by
  have h2 : 2 ^ W ≤ 2 ^ 24 := Nat.pow_le_pow_right (by decide) hW
  have h3 : (2 : Nat) ^ 24 = 16777216 := by decide
  have h4 := pp W
  have e : (((2 : Int) ^ W - 1) % 4294967296) = ((2 ^ W - 1 : Nat) : Int) := by
    have e1 : ((2 : Int) ^ W) = ((2 ^ W : Nat) : Int) := by simp
    rw [e1]
    omega
  rw [e, u32_and_nat n _ hn (by omega), Nat.and_two_pow_sub_one_eq_mod]

set_option maxHeartbeats 400000 in
theorem lowest_any (n W : Nat) (w : World) (hn : n < 4294967296) (hW : W ≤ 24) :
    Calls Tryd.prog 30 #[.int .u32 n, .int .i64 W] w fun e w' => e = .returned (.int .u32 ((n % 2 ^ W : Nat) : Int)) ∧ w' = w := by
  go_enter Tryd.func30, Tryd.ntmps30
  go_wp2
  go_ret
  exact ⟨ret_int (mask_and n W hn hW), rfl⟩

set_option maxHeartbeats 400000 in
theorem room8_any (c : Nat) (w : World) (hc : c ≤ 140737488355328) :
    Calls Tryd.prog 23 #[.int .i64 c] w fun e w' => ∃ v, e = .returned v ∧ Own 5 .u8 256 w' w.heap.size v [] ∧ Below w.heap.size w w' := by
  obtain ⟨i0, hi, hz0, hz1, hz2⟩ := info_parts Tryd.info5
  by_cases h0 : c = 0
  · subst h0
    go_enter Tryd.func23, Tryd.ntmps23
    go_wp2
    go_ret
    exact ⟨_, rfl, ⟨World.ownsRow_nil _ _ _ _, fun x hx => by simp at hx⟩, Below.refl _ _⟩
  · have hne : ((c : Int) == 0) = false := by simp; omega
    go_enter Tryd.func23, Tryd.ntmps23
    go_wp2_with (first | (at_make; refine wpList_make_own _ rfl _ _ 26 rfl w.heap.size 5 i0 (.int .u8 0) 1 Tryd.underlying26 hi hz0 hz1 _ _ _ c rfl rfl rfl (by rw [hz2]; omega) (by unfold maxLen; omega) (Nat.le_refl _) ?_; intro w1 hown hgrow) | go_in)
    go_ret
    exact ⟨_, rfl, ⟨hown, fun x hx => by simp at hx⟩, (Below.refl w.heap.size w).grown hgrow (Nat.le_refl _) (fun k h => by cases h)⟩

set_option maxHeartbeats 400000 in
theorem room32_any (c : Nat) (w : World) (hc : c ≤ 70368744177664) :
    Calls Tryd.prog 29 #[.int .i64 c] w fun e w' => ∃ v, e = .returned v ∧ Own 42 .u32 4294967296 w' w.heap.size v [] ∧ Below w.heap.size w w' := by
  obtain ⟨i0, hi, hz0, hz1, hz2⟩ := info_parts Tryd.info42
  by_cases h0 : c = 0
  · subst h0
    go_enter Tryd.func29, Tryd.ntmps29
    go_wp2
    go_ret
    exact ⟨_, rfl, ⟨World.ownsRow_nil _ _ _ _, fun x hx => by simp at hx⟩, Below.refl _ _⟩
  · have hne : ((c : Int) == 0) = false := by simp; omega
    go_enter Tryd.func29, Tryd.ntmps29
    go_wp2_with (first | (at_make; refine wpList_make_own _ rfl _ _ 44 rfl w.heap.size 42 i0 (.int .u32 0) 1 Tryd.underlying44 hi hz0 hz1 _ _ _ c rfl rfl rfl (by rw [hz2]; omega) (by unfold maxLen; omega) (Nat.le_refl _) ?_; intro w1 hown hgrow) | go_in)
    go_ret
    exact ⟨_, rfl, ⟨hown, fun x hx => by simp at hx⟩, (Below.refl w.heap.size w).grown hgrow (Nat.le_refl _) (fun k h => by cases h)⟩
end Go.Proofs.YtpmobjfhhkglbaaDoor

/- Contract of bits.Digits. -/
namespace Go.Proofs.YtpmobjfhhkglbaaDoor
open Go.RowKit
set_option linter.unusedVariables false

/-- what Digits tells -/
def digS (l : List Nat) (x c : Int) : List Nat := if okB l.length x c = true then digL l x.toNat c.toNat else []

theorem dig_nil (e : TypeId) (k : IntKind) (m : Nat) (w : World) (B : Nat) : Own e k m w B (.slice none 0 0) [] := ⟨World.ownsRow_nil _ _ _ _, fun x hx => by simp at hx⟩

theorem step_left (V x : Nat) (hx : x < 256) : bits .or .u32 (IntKind.u32.wrap ((V % 2 ^ 32 : Nat) * 256 : Int)) (x : Int) = (((V * 256 + x) % 2 ^ 32 : Nat) : Int) := by
  have e : IntKind.u32.wrap (((V % 2 ^ 32 : Nat) : Int) * 256) = ((V % 2 ^ 32 * 256 % 4294967296 : Nat) : Int) := by
    rw [IntKind.wrap_u32']; omega
  rw [e, u32_or_nat _ _ (Nat.mod_lt _ (by decide)) (by omega), nat_join 8 _ _ (by omega) (by omega)]
  congr 1
  omega

set_option maxHeartbeats 1000000 in
set_option maxRecDepth 100000 in
theorem dig_any (va : Value) (l : List Nat) (x c : Int) (w : World) (ha : Row .u8 256 w va l) (hl : l.length ≤ 1000000)
    (hc0 : -9223372036854775808 ≤ c) (hc1 : c ≤ 9223372036854775807) :
    Calls Tryd.prog 21 #[va, .int .i64 x, .int .i64 c] w fun e w' => ∃ v, e = .returned v ∧ Own 42 .u32 4294967296 w' w.heap.size v (digS l x c) ∧ Below w.heap.size w w' := by
  have ha' := ha
  obtain ⟨a, ca, rfl, ha1, ha2, ha3, ha4⟩ := ha
  unfold maxLen at ha2
  cases hok : okB l.length x c with
  | false =>
    have hS : digS l x c = [] := by unfold digS; rw [if_neg (by rw [hok]; decide)]
    rw [hS]; clear hS
    go_enter Tryd.func21, Tryd.ntmps21
    go_wp2_with (go_at_call 28; refine (holds_any _ l x c _ ha' (by omega) hc0 hc1).mono ?_; rintro e w' ⟨rfl, rfl⟩)
    go_ret
    exact ⟨_, rfl, dig_nil _ _ _ _ _, Below.refl _ _⟩
  | true =>
    have hS : digS l x c = digL l x.toNat c.toNat := by unfold digS; rw [if_pos hok]
    rw [hS]; clear hS
    obtain ⟨W, C, rfl, rfl, hW1, hW2, hCW⟩ := okB_of hok
    rw [Int.toNat_natCast, Int.toNat_natCast]
    have hC : C ≤ 8000000 := by
      have : C * 1 ≤ C * W := Nat.mul_le_mul_left C hW1
      omega
    obtain ⟨i0, hi, hz0, hz1, hz2⟩ := info_parts Tryd.info42
    go_enter Tryd.func21, Tryd.ntmps21
    go_wp2_with fail
    refine (holds_any _ l W C _ ha' (by omega) hc0 hc1).mono ?_
    rintro e w' ⟨rfl, rfl⟩
    rw [hok]
    clear hok
    go_wp2_with fail
    refine (room32_any C _ (by omega)).mono ?_
    rintro e w1 ⟨v, rfl, ⟨ho, _⟩, hb⟩
    go_wp2
    go_loopw [7, 8, 9, 10, 19] (fun v left have_ at_ i wr => ∃ k t : Nat, k ≤ C ∧ t ≤ l.length ∧ k * W ≤ 8 * t ∧ 8 * t - k * W < 8 ∧ i = .int .i64 k ∧ at_ = .int .i64 t ∧ have_ = .int .i64 ((8 * t - k * W : Nat) : Int) ∧ left = .int .u32 ((valBe (l.take t) % 2 ^ 32 : Nat) : Int) ∧
        wr.ownsRow w'.heap.size 42 1 v k (vals .u32 (digL l W k)) ∧ Below w'.heap.size w' wr) (fun _ _ _ _ i _ => C - (intOf i).toNat)
    case atStart => exact ⟨0, 0, Nat.zero_le _, Nat.zero_le _, by omega, by omega, rfl, rfl, by simp, rfl, ho, hb⟩
    case round =>
      obtain ⟨k, t, hk, ht, hkt, hh8, rfl, rfl, rfl, rfl, how, hbr⟩ := hrel
      clear ho hb
      by_cases hlt : k < C
      · have hq : (k + 1) * W ≤ C * W := Nat.mul_le_mul_right W (by omega)
        rw [Nat.add_mul, Nat.one_mul] at hq
        have hPl : k * W + W ≤ 8 * l.length := by omega
        clear hq hCW
        generalize hP : k * W = P at *
        have HP := hide hP
        clear hP
        have hc0' := ha3.below hbr (Nat.le_refl _)
        go_wp2
        go_loop [8, 9, 10] (fun left have_ at_ => ∃ t : Nat, t ≤ l.length ∧ P ≤ 8 * t ∧ 8 * t - P < W + 8 ∧ at_ = .int .i64 t ∧ have_ = .int .i64 ((8 * t - P : Nat) : Int) ∧ left = .int .u32 ((valBe (l.take t) % 2 ^ 32 : Nat) : Int)) (fun _ h _ => (24 - intOf h).toNat)
        case atStart => exact ⟨t, ht, hkt, by omega, rfl, rfl, rfl⟩
        case round =>
          clear ht hkt hh8
          obtain ⟨t, ht, hkt, hh8, rfl, rfl, rfl⟩ := hrel
          by_cases hlt2 : 8 * t - P < W
          · have htl : t < l.length := by omega
            obtain ⟨ba, oa, rfl, hca⟩ := hc0' (by omega)
            have c1 := hca t htl
            have hx := el_lt ha4 (by decide) t
            clear hca
            have hL : valBe (l.take t) % 2 ^ 32 < 4294967296 := Nat.mod_lt _ (by decide)
            generalize hV : valBe (l.take t) % 2 ^ 32 = L at *
            have HV := hide hV
            clear hV
            go_wp2
            go_round
            case rel => exact ⟨t + 1, by omega, by omega, by omega, by go_num, vint (by omega), vint (by rw [take_snoc htl, valBe_snoc, ← step_left _ _ hx, HV.out, IntKind.wrap_u32'])⟩
            case measure => simp [intOf]; omega
          · have hL : valBe (l.take t) % 2 ^ 32 < 4294967296 := Nat.mod_lt _ (by decide)
            generalize hV : valBe (l.take t) % 2 ^ 32 = L at *
            have HV := hide hV
            clear hV
            obtain ⟨h, hh⟩ : ∃ h, 8 * t - P = h + W := ⟨8 * t - P - W, by omega⟩
            have hh' : h < 8 := by omega
            have hd : L / 2 ^ h < 4294967296 := Nat.lt_of_le_of_lt (Nat.div_le_self _ _) hL
            rw [hh]
            have HH := hide hh
            clear hh
            go_wp2_with fail
            rw [show ((L : Int) / 2 ^ h) = ((L / 2 ^ h : Nat) : Int) from by simp]
            refine (lowest_any _ W _ hd hW2).mono ?_
            rintro e w2 ⟨rfl, hw2⟩
            rw [hw2]
            clear hw2
            have hD : L / 2 ^ h % 2 ^ W = dig l W k := by
              have e1 := dig_read l ha4 W k t ht (by rw [Nat.add_mul, Nat.one_mul, HP.out]; have := HH.out; omega) (by rw [Nat.add_mul, Nat.one_mul, HP.out]; have := HH.out; omega)
              rw [← e1, HV.out, Nat.add_mul, Nat.one_mul, HP.out]
              congr 3
              have := HH.out; omega
            rw [hD]
            clear hD
            have hsz := hbr.size
            go_wp2_with (first | (at_builtin; refine wpList_append_own _ rfl _ _ 44 rfl w'.heap.size 42 i0 (.int .u32 0) 1 4 Tryd.underlying44 hi hz0 hz1 hz2 rfl (by decide) _ _ _ rfl (how.alloc _) ⟨wr.heap.size, 0, none⟩ 1 1 [.int .u32 (dig l W k)] rfl rfl (cells_new _ _ _) (one_new _ _) (by unfold maxLen; omega) (by omega) (by simp; omega) ?_; intro v' w3 how' hgrow _) | fail)
            have hb3 := below_append hbr hsz how _ hgrow
            clear how hgrow hbr
            go_roundw
            case rel =>
              refine ⟨k + 1, t, by omega, ht, ?_, ?_, by go_num, rfl, vint ?_, vint ?_, ?_, hb3⟩
              · rw [Nat.add_mul, Nat.one_mul, HP.out]; have := HH.out; omega
              · rw [Nat.add_mul, Nat.one_mul, HP.out]; have := HH.out; omega
              · rw [Nat.add_mul, Nat.one_mul, HP.out]; have := HH.out; omega
              · rw [HV.out]
              · rw [digL_succ, vals_append]; exact how'
            case measure => simp [intOf]; omega
      · go_wp2
        go_ret
        have e : k = C := by omega
        subst e
        exact ⟨_, rfl, ⟨by rw [digL_length]; exact how, digL_under _ _ _ hW2⟩, hbr⟩
end Go.Proofs.YtpmobjfhhkglbaaDoor

/- Contracts of bits.Join, apostilleref01.Join. -/
namespace Go.Proofs.YtpmobjfhhkglbaaDoor
open Go.RowKit
set_option linter.unusedVariables false

set_option maxHeartbeats 1000000 in
theorem join_any (va : Value) (ls : List (List Nat)) (w : World) (ha : Rows2 w va ls) (hs : ls.flatten.length ≤ 1000000) :
    Calls Tryd.prog 15 #[va] w fun e w' => ∃ v, e = .returned v ∧ Own 5 .u8 256 w' w.heap.size v ls.flatten ∧ Below w.heap.size w w' := by
  have hu := ha.under
  have ha' := ha
  obtain ⟨a, ca, rfl, ha1, ha2, ha3⟩ := ha
  unfold maxLen at ha2
  obtain ⟨i0, hi, hz0, hz1, hz2⟩ := info_parts Tryd.info5
  go_enter Tryd.func15, Tryd.ntmps15
  go_wp2
  go_loop [3, 11] (fun s i => ∃ k : Nat, k ≤ ls.length ∧ i = .int .i64 k ∧ s = .int .i64 ((ls.take k).flatten.length : Nat)) (fun _ i => ls.length - (intOf i).toNat)
  case atStart => exact ⟨0, Nat.zero_le _, rfl, rfl⟩
  case round =>
    obtain ⟨k, hk, rfl, rfl⟩ := hrel
    by_cases hlt : k < ls.length
    · have hf := flat_succ hlt
      have hle := flat_le ls (k + 1)
      rw [hf, List.length_append] at hle
      obtain ⟨b, off, rfl, hc⟩ := ha3 (by omega)
      obtain ⟨u, c1, ⟨au, cu, rfl, hu1, hu2, hu3, hu4⟩, htidy⟩ := hc k hlt
      clear hc ha3
      have HF := hide hf
      clear hf
      generalize hM : (ls.take k).flatten.length = M at *
      have HM := hide hM
      clear hM
      generalize hT : (tx ls k).length = T at *
      have HT := hide hT
      clear hT
      go_wp2
      go_round
      case rel => exact ⟨k + 1, by omega, by go_num, vint (by rw [HF.out, List.length_append, HM.out, HT.out]; simp)⟩
      case measure => simp [intOf]; omega
    · have hkl : k = ls.length := by omega
      subst hkl
      rw [List.take_of_length_le (Nat.le_refl _)]
      generalize hM : ls.flatten.length = M at *
      have HM := hide hM
      clear hM
      go_wp2_with fail
      refine (room8_any M _ (by omega)).mono ?_
      rintro e w1 ⟨v, rfl, ⟨ho, _⟩, hb⟩
      go_wp2
      go_loopw [6, 24] (fun v i wr => ∃ k : Nat, k ≤ ls.length ∧ i = .int .i64 k ∧ wr.ownsRow w.heap.size 5 1 v (ls.take k).flatten.length (vals .u8 (ls.take k).flatten) ∧ Below w.heap.size w wr) (fun _ i _ => ls.length - (intOf i).toNat)
      case atStart => exact ⟨0, Nat.zero_le _, rfl, ho, hb⟩
      case round =>
        obtain ⟨k, hk, rfl, how, hbr⟩ := hrel
        clear ho hb
        by_cases hlt : k < ls.length
        · have hf := flat_succ hlt
          have hle := flat_le ls (k + 1)
          rw [hf, List.length_append, HM.out] at hle
          obtain ⟨a2, ca2, he, _, _, h3⟩ := ha'.below hbr
          obtain ⟨rfl, rfl⟩ : a = a2 ∧ ca = ca2 := by simpa using he
          obtain ⟨b, off, rfl, hc⟩ := h3 (by omega)
          obtain ⟨u, c1, ⟨au, cu, rfl, hu1, hu2, hu3, hu4⟩, htidy⟩ := hc k hlt
          clear hc h3 he ha3
          have hsz := hbr.size
          have HF := hide hf
          clear hf
          generalize hM2 : (ls.take k).flatten = M2 at *
          have HM2 := hide hM2
          clear hM2
          generalize hT : tx ls k = T at *
          have HT := hide hT
          clear hT
          cases au with
          | none =>
            obtain ⟨h0, rfl⟩ := htidy _ _ rfl
            have hT0 : T = [] := List.eq_nil_of_length_eq_zero h0
            subst hT0
            go_wp2_with (first | (at_builtin; refine wpList_append_own_none rfl _ _ 26 rfl w.heap.size 5 i0 1 Tryd.underlying26 hi _ _ _ rfl how rfl ?_) | fail)
            go_roundw
            case rel => exact ⟨k + 1, by omega, by go_num, by rw [HF.out, List.append_nil]; exact how, hbr⟩
            case measure => simp [intOf]; omega
          | some x =>
            go_wp2_with (first | (at_builtin; refine wpList_append_own _ rfl _ _ 26 rfl w.heap.size 5 i0 (.int .u8 0) 1 1 Tryd.underlying26 hi hz0 hz1 hz2 rfl (by decide) _ _ _ rfl how x T.length cu (vals .u8 T) rfl (by rw [vals_length, Nat.mul_one]) (cells_news hu3) (vals_one _ _) (by unfold maxLen; omega) (by omega) hsz ?_; intro v' w3 how' hgrow _) | fail)
            have hb3 := below_append' hbr hsz how hgrow
            clear how hgrow hbr
            go_roundw
            case rel => exact ⟨k + 1, by omega, by go_num, by rw [HF.out, List.length_append, vals_append]; exact how', hb3⟩
            case measure => simp [intOf]; omega
        · go_wp2
          go_ret
          rw [List.take_of_length_le (by omega)] at how
          exact ⟨_, rfl, ⟨how, hu⟩, hbr⟩
end Go.Proofs.YtpmobjfhhkglbaaDoor

/- Contract of sha.state.bytes at words of 32 bits. -/
namespace Go.Proofs.YtpmobjfhhkglbaaDoor
open Go.RowKit
set_option linter.unusedVariables false
set_option linter.unusedSimpArgs false

set_option maxHeartbeats 4000000 in
set_option maxRecDepth 100000 in
theorem bytes_any32 (l : List Nat) (N : Nat) (w : World) (h8 : l.length = 8) (hu : Under 4294967296 l) (hN : N ≤ 32) :
    Calls Tryd.prog 87 #[.agg (arr .u32 l), .int .i64 N] w fun e w' => ∃ v, e = .returned v ∧ Own 5 .u8 256 w' w.heap.size v ((bytesW false l).take N) ∧ Below w.heap.size w w' := by
  obtain ⟨i0, hi, hz0, hz1, hz2⟩ := info_parts Tryd.info5
  have hlen : ((bytesW false l).take N).length = N := by rw [List.length_take, bytesW_length, h8]; show min N (8 * 4) = N; omega
  have hBu : Under 256 ((bytesW false l).take N) := (bytesW_under false l).take N
  have hel : ∀ i, i < N → el ((bytesW false l).take N) i = el l (i / 4) / 256 ^ (4 - 1 - i % 4) % 256 := fun i hi => by
    rw [el_take hi, bytesW_el _ _ _ (by rw [h8]; show i < 8 * 4; omega)]; rfl
  have HEL := hide hel
  clear hel
  have hL := Lies.new .u32 93 w l
  go_enter Tryd.func87, Tryd.ntmps87
  go_wp2_with (first | (at_make; refine wpList_make_full _ rfl _ _ 26 rfl w.heap.size 5 i0 (.int .u8 0) 1 Tryd.underlying26 hi hz0 hz1 _ _ _ _ N rfl rfl rfl rfl (by rw [hz2]; omega) (by unfold maxLen; omega) (by simp) ?_; intro w1 hown hgrow) | fail)
  rw [made_u8] at hown
  have hb := (Below.refl (w.alloc (.cells (arr .u32 l) 93)).heap.size (w.alloc (.cells (arr .u32 l) 93))).grown hgrow (Nat.le_refl _) (fun k h => by cases h)
  have hL1 := hL.below hb
  have hb1 := keep_trans (keep_alloc w _) hb
  clear hgrow hL hb
  refine (either_int32 _ _ _).mono ?_
  rintro e w2 ⟨rfl, rfl⟩
  go_wp2
  generalize hO : (bytesW false l).take N = O at *
  have HO := hide hO
  clear hO
  have hown0 : w2.ownsRow w.heap.size 5 1 (.slice (some ⟨w.heap.size + 1, 0, none⟩) N N) N (vals .u8 (pad N (O.take 0))) := by simpa [pad] using hown
  clear hown
  go_loopw [13] (fun i wr => ∃ k : Nat, k ≤ N ∧ i = .int .i64 k ∧ wr.ownsRow w.heap.size 5 1 (.slice (some ⟨w.heap.size + 1, 0, none⟩) N N) N (vals .u8 (pad N (O.take k))) ∧ Lies .u32 93 wr w.heap.size l ∧ Below w.heap.size w wr) (fun i _ => N - (intOf i).toNat)
  case atStart => exact ⟨0, Nat.zero_le _, rfl, hown0, hL1, hb1⟩
  case round =>
    obtain ⟨k, hk, rfl, how, hLk, hbr⟩ := hrel
    clear hown0 hL1 hb1
    by_cases hlt : k < N
    · have htl : (O.take k).length = k := by rw [List.length_take]; omega
      have hpl : (pad N (O.take k)).length = N := pad_length (by omega)
      have c1 := how.cellAt k (by omega)
      rw [vals_get _ _ _ (by omega)] at c1
      have f1 := how.frozenAt k
      have hst := (how.stored k (.int .u8 ((el O k : Nat) : Int))).1
      have hse := pad_set (n := N) (l := O.take k) (by omega) (el O k)
      rw [htl, ← take_el (by omega)] at hse
      rw [vals_set, hse] at hst
      have HST := hide hst
      have c2 := hLk.cell (i := k / 4) (by omega)
      have hkl : el l (k / 4) < 4294967296 := el_lt hu (by decide) _
      have HK := HEL.out k hlt
      have HKH := hide HK
      clear hst hse HK htl hpl
      have ik0 : (0 : Int) ≤ (k : Int) := Int.natCast_nonneg _
      have ik1 : (k : Int) < (N : Int) := by omega
      obtain ⟨q, hq⟩ : ∃ q, q = k / 4 := ⟨_, rfl⟩
      obtain ⟨r, hr⟩ : ∃ r, r = 4 - 1 - k % 4 := ⟨_, rfl⟩
      have k1 : (k : Int).tdiv 4 = (q : Int) := by rw [hq]; rfl
      have k2 : (k : Int) / 4 = (q : Int) := by rw [hq]; omega
      have k3 : IntKind.i64.wrap (q : Int) = (q : Int) := by rw [IntKind.wrap_i64]; omega
      have k4 : (q : Int) < 8 := by omega
      have k5 : (0 : Int) ≤ (q : Int) := Int.natCast_nonneg _
      have k6 : (k : Int).tmod 4 = 3 - (r : Int) := by rw [hr]; have : (k : Int).tmod 4 = ((k % 4 : Nat) : Int) := rfl; rw [this]; omega
      have k7 : (k : Int) % 4 = 3 - (r : Int) := by omega
      have k8 : q < 8 := by omega
      have k9 : r < 4 := by omega
      rw [← hq] at c2 hkl
      have HQ := hide hq
      have HR := hide hr
      clear hq hr
      go_wp2
      go_region
      go_wp2
      have ev : (el l q : Int) / 2 ^ (8 * (3 - (3 - r))) % 256 = ((el O k : Nat) : Int) := by
        rw [show 3 - (3 - r) = r by omega, byte_shr, HKH.out, ← HQ.out, ← HR.out]
      rw [ev]
      exact ⟨⟨k + 1, by omega, by go_num, HST.out, hLk.but ((But.setCell (But.refl (w.heap.size + 1) _) _ _).drew) (by omega), (hbr.setCell (by simp) _).drew⟩, by simp [intOf]; omega⟩
    · obtain rfl : k = N := by omega
      rw [List.take_of_length_le (by omega), pad_full hlen] at how
      go_wp2
      go_ret
      exact ⟨_, rfl, by rw [HO.out]; exact ⟨by rw [hlen]; exact how, hBu⟩, hbr⟩
end Go.Proofs.YtpmobjfhhkglbaaDoor

/- sha.resume, of the words as a sum holds them. -/
namespace Go.Proofs.YtpmobjfhhkglbaaDoor
open Go.RowKit
set_option linter.unusedVariables false
set_option linter.unusedSimpArgs false

theorem block_keep32 (v : Value) (w : World) :
    Calls Tryd.prog 71 #[v] w fun e w' => e = .returned (.int .i64 64) ∧ w = w' :=
  (block_any32 v w).mono fun _ _ ⟨h1, h2⟩ => ⟨h1, h2.symm⟩
theorem head_range32 {k : IntKind} {t : TypeId} {w : World} {g : Nat} {l c : List Nat} (h : Lies k t w g (l ++ c)) : w.rangeAt g 0 (vals k l) := fun j v hv => by
  have hj : j < l.length := by have := (List.getElem?_eq_some_iff.1 hv).1; rwa [vals_length] at this
  rw [Nat.zero_add, h.cell (by rw [List.length_append]; omega), el_app_left hj, ← vals_get k l j hj]; exact hv
theorem resume_is32 (ws : List Nat) (w : World) (h8 : ws.length = 8) (hu : Under 4294967296 ws) :
    Calls Tryd.prog 70 #[.agg #[.int .u64 (el ws 0), .int .u64 (el ws 1), .int .u64 (el ws 2), .int .u64 (el ws 3), .int .u64 (el ws 4), .int .u64 (el ws 5), .int .u64 (el ws 6), .int .u64 (el ws 7)], .agg (vals .u64 cubes).toArray] w fun e w' => ∃ g, e = .returned (.pointer (some ⟨g, 0, none⟩)) ∧ w.heap.size ≤ g ∧ Sm32 w' g ws (ks false) ∧ Below w.heap.size w w' := by
  rw [← arr8 .u64 ws h8]
  exact resume_any32 ws cubes w h8 hu cubes_length cubes_under

end Go.Proofs.YtpmobjfhhkglbaaDoor
