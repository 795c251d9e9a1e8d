import Derived.Test.YtpmobjfhhkglbaaGreatDoorHRes32
import Derived.Test.YtpmobjfhhkglbaaGreatDoorLmM
import Derived.Test.YtpmobjfhhkglbaaGreatDoorGBl32
import Derived.Laws.AppendOwnNone
import Derived.Test.YtpmobjfhhkglbaaGreatDoorHTur32
import Derived.Test.YtpmobjfhhkglbaaGreatDoorHHsh
import Derived.Test.YtpmobjfhhkglbaaGreatDoorHSl
set_option maxHeartbeats 8000000
set_option maxRecDepth 100000
namespace Go.Proofs.YtpmobjfhhkglbaaGreatDoor
open Go.RowKit
set_option linter.unusedVariables false
def digS (l : List Nat) (x c : Int) : List Nat := if okB l.length x c = true then digL l x.toNat c.toNat else []
theorem dig_nil (e : TypeId) (k : IntKind) (m : Nat) (w : World) (B : Nat) : Own e k m w B (.slice none 0 0) [] := ⟨World.ownsRow_nil _ _ _ _, fun x hx => by simp at hx⟩
theorem step_left (V x : Nat) (hx : x < 256) : bits .or .u32 (IntKind.u32.wrap ((V % 2 ^ 32 : Nat) * 256 : Int)) (x : Int) = (((V * 256 + x) % 2 ^ 32 : Nat) : Int) := by
  have e : IntKind.u32.wrap (((V % 2 ^ 32 : Nat) : Int) * 256) = ((V % 2 ^ 32 * 256 % 4294967296 : Nat) : Int) := by
    rw [IntKind.wrap_u32']; omega
  rw [e, u32_or_nat _ _ (Nat.mod_lt _ (by decide)) (by omega), nat_join 8 _ _ (by omega) (by omega)]
  congr 1
  omega
theorem dig_any (va : Value) (l : List Nat) (x c : Int) (w : World) (ha : Row .u8 256 w va l) (hl : l.length ≤ 1000000)
    (hc0 : -9223372036854775808 ≤ c) (hc1 : c ≤ 9223372036854775807) :
    Calls Tryz.prog 31 #[va, .int .i64 x, .int .i64 c] w fun e w' => ∃ v, e = .returned v ∧ Own 42 .u32 4294967296 w' w.heap.size v (digS l x c) ∧ Below w.heap.size w w' := by
  have ha' := ha
  obtain ⟨a, ca, rfl, ha1, ha2, ha3, ha4⟩ := ha
  unfold maxLen at ha2
  cases hok : okB l.length x c with
  | false =>
    have hS : digS l x c = [] := by unfold digS; rw [if_neg (by rw [hok]; decide)]
    rw [hS]; clear hS
    go_enter Tryz.func31, Tryz.ntmps31
    go_wp2_with (go_at_call 51; refine (holds_any _ l x c _ ha' (by omega) hc0 hc1).mono ?_; rintro e w' ⟨rfl, rfl⟩)
    go_ret
    exact ⟨_, rfl, dig_nil _ _ _ _ _, Below.refl _ _⟩
  | true =>
    have hS : digS l x c = digL l x.toNat c.toNat := by unfold digS; rw [if_pos hok]
    rw [hS]; clear hS
    obtain ⟨W, C, rfl, rfl, hW1, hW2, hCW⟩ := okB_of hok
    rw [Int.toNat_natCast, Int.toNat_natCast]
    have hC : C ≤ 8000000 := by
      have : C * 1 ≤ C * W := Nat.mul_le_mul_left C hW1
      omega
    obtain ⟨i0, hi, hz0, hz1, hz2⟩ := info_parts Tryz.info42
    go_enter Tryz.func31, Tryz.ntmps31
    go_wp2_with fail
    refine (holds_any _ l W C _ ha' (by omega) hc0 hc1).mono ?_
    rintro e w' ⟨rfl, rfl⟩
    rw [hok]
    clear hok
    go_wp2_with fail
    refine (room32_any C _ (by omega)).mono ?_
    rintro e w1 ⟨v, rfl, ⟨ho, _⟩, hb⟩
    go_wp2
    go_loopw [7, 8, 9, 10, 19] (fun v left have_ at_ i wr => ∃ k t : Nat, k ≤ C ∧ t ≤ l.length ∧ k * W ≤ 8 * t ∧ 8 * t - k * W < 8 ∧ i = .int .i64 k ∧ at_ = .int .i64 t ∧ have_ = .int .i64 ((8 * t - k * W : Nat) : Int) ∧ left = .int .u32 ((valBe (l.take t) % 2 ^ 32 : Nat) : Int) ∧
        wr.ownsRow w'.heap.size 42 1 v k (vals .u32 (digL l W k)) ∧ Below w'.heap.size w' wr) (fun _ _ _ _ i _ => C - (intOf i).toNat)
    case atStart => exact ⟨0, 0, Nat.zero_le _, Nat.zero_le _, by omega, by omega, rfl, rfl, by simp, rfl, ho, hb⟩
    case round =>
      obtain ⟨k, t, hk, ht, hkt, hh8, rfl, rfl, rfl, rfl, how, hbr⟩ := hrel
      clear ho hb
      by_cases hlt : k < C
      · have hq : (k + 1) * W ≤ C * W := Nat.mul_le_mul_right W (by omega)
        rw [Nat.add_mul, Nat.one_mul] at hq
        have hPl : k * W + W ≤ 8 * l.length := by omega
        clear hq hCW
        generalize hP : k * W = P at *
        have HP := hide hP
        clear hP
        have hc0' := ha3.below hbr (Nat.le_refl _)
        go_wp2
        go_loop [8, 9, 10] (fun left have_ at_ => ∃ t : Nat, t ≤ l.length ∧ P ≤ 8 * t ∧ 8 * t - P < W + 8 ∧ at_ = .int .i64 t ∧ have_ = .int .i64 ((8 * t - P : Nat) : Int) ∧ left = .int .u32 ((valBe (l.take t) % 2 ^ 32 : Nat) : Int)) (fun _ h _ => (24 - intOf h).toNat)
        case atStart => exact ⟨t, ht, hkt, by omega, rfl, rfl, rfl⟩
        case round =>
          clear ht hkt hh8
          obtain ⟨t, ht, hkt, hh8, rfl, rfl, rfl⟩ := hrel
          by_cases hlt2 : 8 * t - P < W
          · have htl : t < l.length := by omega
            obtain ⟨ba, oa, rfl, hca⟩ := hc0' (by omega)
            have c1 := hca t htl
            have hx := el_lt ha4 (by decide) t
            clear hca
            have hL : valBe (l.take t) % 2 ^ 32 < 4294967296 := Nat.mod_lt _ (by decide)
            generalize hV : valBe (l.take t) % 2 ^ 32 = L at *
            have HV := hide hV
            clear hV
            go_wp2
            go_round
            case rel => exact ⟨t + 1, by omega, by omega, by omega, by go_num, vint (by omega), vint (by rw [take_snoc htl, valBe_snoc, ← step_left _ _ hx, HV.out, IntKind.wrap_u32'])⟩
            case measure => simp [intOf]; omega
          · have hL : valBe (l.take t) % 2 ^ 32 < 4294967296 := Nat.mod_lt _ (by decide)
            generalize hV : valBe (l.take t) % 2 ^ 32 = L at *
            have HV := hide hV
            clear hV
            obtain ⟨h, hh⟩ : ∃ h, 8 * t - P = h + W := ⟨8 * t - P - W, by omega⟩
            have hh' : h < 8 := by omega
            have hd : L / 2 ^ h < 4294967296 := Nat.lt_of_le_of_lt (Nat.div_le_self _ _) hL
            rw [hh]
            have HH := hide hh
            clear hh
            go_wp2_with fail
            rw [show ((L : Int) / 2 ^ h) = ((L / 2 ^ h : Nat) : Int) from by simp]
            refine (lowest_any _ W _ hd hW2).mono ?_
            rintro e w2 ⟨rfl, hw2⟩
            rw [hw2]
            clear hw2
            have hD : L / 2 ^ h % 2 ^ W = dig l W k := by
              have e1 := dig_read l ha4 W k t ht (by rw [Nat.add_mul, Nat.one_mul, HP.out]; have := HH.out; omega) (by rw [Nat.add_mul, Nat.one_mul, HP.out]; have := HH.out; omega)
              rw [← e1, HV.out, Nat.add_mul, Nat.one_mul, HP.out]
              congr 3
              have := HH.out; omega
            rw [hD]
            clear hD
            have hsz := hbr.size
            go_wp2_with (first | (at_builtin; refine wpList_append_own _ rfl _ _ 33 rfl w'.heap.size 42 i0 (.int .u32 0) 1 4 Tryz.underlying33 hi hz0 hz1 hz2 rfl (by decide) _ _ _ rfl (how.alloc _) ⟨wr.heap.size, 0, none⟩ 1 1 [.int .u32 (dig l W k)] rfl rfl (cells_new _ _ _) (one_new _ _) (by unfold maxLen; omega) (by omega) (by simp; omega) ?_; intro v' w3 how' hgrow _) | fail)
            have hb3 := below_append hbr hsz how _ hgrow
            clear how hgrow hbr
            go_roundw
            case rel =>
              refine ⟨k + 1, t, by omega, ht, ?_, ?_, by go_num, rfl, vint ?_, vint ?_, ?_, hb3⟩
              · rw [Nat.add_mul, Nat.one_mul, HP.out]; have := HH.out; omega
              · rw [Nat.add_mul, Nat.one_mul, HP.out]; have := HH.out; omega
              · rw [Nat.add_mul, Nat.one_mul, HP.out]; have := HH.out; omega
              · rw [HV.out]
              · rw [digL_succ, vals_append]; exact how'
            case measure => simp [intOf]; omega
      · go_wp2
        go_ret
        have e : k = C := by omega
        subst e
        exact ⟨_, rfl, ⟨by rw [digL_length]; exact how, digL_under _ _ _ hW2⟩, hbr⟩
theorem join_any (va : Value) (ls : List (List Nat)) (w : World) (ha : Rows2 w va ls) (hs : ls.flatten.length ≤ 1000000) :
    Calls Tryz.prog 32 #[va] w fun e w' => ∃ v, e = .returned v ∧ Own 5 .u8 256 w' w.heap.size v ls.flatten ∧ Below w.heap.size w w' := by
  have hu := ha.under
  have ha' := ha
  obtain ⟨a, ca, rfl, ha1, ha2, ha3⟩ := ha
  unfold maxLen at ha2
  obtain ⟨i0, hi, hz0, hz1, hz2⟩ := info_parts Tryz.info5
  go_enter Tryz.func32, Tryz.ntmps32
  go_wp2
  go_loop [3, 11] (fun s i => ∃ k : Nat, k ≤ ls.length ∧ i = .int .i64 k ∧ s = .int .i64 ((ls.take k).flatten.length : Nat)) (fun _ i => ls.length - (intOf i).toNat)
  case atStart => exact ⟨0, Nat.zero_le _, rfl, rfl⟩
  case round =>
    obtain ⟨k, hk, rfl, rfl⟩ := hrel
    by_cases hlt : k < ls.length
    · have hf := flat_succ hlt
      have hle := flat_le ls (k + 1)
      rw [hf, List.length_append] at hle
      obtain ⟨b, off, rfl, hc⟩ := ha3 (by omega)
      obtain ⟨u, c1, ⟨au, cu, rfl, hu1, hu2, hu3, hu4⟩, htidy⟩ := hc k hlt
      clear hc ha3
      have HF := hide hf
      clear hf
      generalize hM : (ls.take k).flatten.length = M at *
      have HM := hide hM
      clear hM
      generalize hT : (tx ls k).length = T at *
      have HT := hide hT
      clear hT
      go_wp2
      go_round
      case rel => exact ⟨k + 1, by omega, by go_num, vint (by rw [HF.out, List.length_append, HM.out, HT.out]; simp)⟩
      case measure => simp [intOf]; omega
    · have hkl : k = ls.length := by omega
      subst hkl
      rw [List.take_of_length_le (Nat.le_refl _)]
      generalize hM : ls.flatten.length = M at *
      have HM := hide hM
      clear hM
      go_wp2_with fail
      refine (room8_any M _ (by omega)).mono ?_
      rintro e w1 ⟨v, rfl, ⟨ho, _⟩, hb⟩
      go_wp2
      go_loopw [6, 24] (fun v i wr => ∃ k : Nat, k ≤ ls.length ∧ i = .int .i64 k ∧ wr.ownsRow w.heap.size 5 1 v (ls.take k).flatten.length (vals .u8 (ls.take k).flatten) ∧ Below w.heap.size w wr) (fun _ i _ => ls.length - (intOf i).toNat)
      case atStart => exact ⟨0, Nat.zero_le _, rfl, ho, hb⟩
      case round =>
        obtain ⟨k, hk, rfl, how, hbr⟩ := hrel
        clear ho hb
        by_cases hlt : k < ls.length
        · have hf := flat_succ hlt
          have hle := flat_le ls (k + 1)
          rw [hf, List.length_append, HM.out] at hle
          obtain ⟨a2, ca2, he, _, _, h3⟩ := ha'.below hbr
          obtain ⟨rfl, rfl⟩ : a = a2 ∧ ca = ca2 := by simpa using he
          obtain ⟨b, off, rfl, hc⟩ := h3 (by omega)
          obtain ⟨u, c1, ⟨au, cu, rfl, hu1, hu2, hu3, hu4⟩, htidy⟩ := hc k hlt
          clear hc h3 he ha3
          have hsz := hbr.size
          have HF := hide hf
          clear hf
          generalize hM2 : (ls.take k).flatten = M2 at *
          have HM2 := hide hM2
          clear hM2
          generalize hT : tx ls k = T at *
          have HT := hide hT
          clear hT
          cases au with
          | none =>
            obtain ⟨h0, rfl⟩ := htidy _ _ rfl
            have hT0 : T = [] := List.eq_nil_of_length_eq_zero h0
            subst hT0
            go_wp2_with (first | (at_builtin; refine wpList_append_own_none rfl _ _ 27 rfl w.heap.size 5 i0 1 Tryz.underlying27 hi _ _ _ rfl how rfl ?_) | fail)
            go_roundw
            case rel => exact ⟨k + 1, by omega, by go_num, by rw [HF.out, List.append_nil]; exact how, hbr⟩
            case measure => simp [intOf]; omega
          | some x =>
            go_wp2_with (first | (at_builtin; refine wpList_append_own _ rfl _ _ 27 rfl w.heap.size 5 i0 (.int .u8 0) 1 1 Tryz.underlying27 hi hz0 hz1 hz2 rfl (by decide) _ _ _ rfl how x T.length cu (vals .u8 T) rfl (by rw [vals_length, Nat.mul_one]) (cells_news hu3) (vals_one _ _) (by unfold maxLen; omega) (by omega) hsz ?_; intro v' w3 how' hgrow _) | fail)
            have hb3 := below_append' hbr hsz how hgrow
            clear how hgrow hbr
            go_roundw
            case rel => exact ⟨k + 1, by omega, by go_num, by rw [HF.out, List.length_append, vals_append]; exact how', hb3⟩
            case measure => simp [intOf]; omega
        · go_wp2
          go_ret
          rw [List.take_of_length_le (by omega)] at how
          exact ⟨_, rfl, ⟨how, hu⟩, hbr⟩
end Go.Proofs.YtpmobjfhhkglbaaGreatDoor

namespace Go.Proofs.YtpmobjfhhkglbaaGreatDoor
open Go.RowKit
set_option linter.unusedVariables false
set_option linter.unusedSimpArgs false
theorem bytes_any32 (l : List Nat) (N : Nat) (w : World) (h8 : l.length = 8) (hu : Under 4294967296 l) (hN : N ≤ 32) :
    Calls Tryz.prog 134 #[.agg (arr .u32 l), .int .i64 N] w fun e w' => ∃ v, e = .returned v ∧ Own 5 .u8 256 w' w.heap.size v ((bytesW false l).take N) ∧ Below w.heap.size w w' := by
  obtain ⟨i0, hi, hz0, hz1, hz2⟩ := info_parts Tryz.info5
  have hlen : ((bytesW false l).take N).length = N := by rw [List.length_take, bytesW_length, h8]; show min N (8 * 4) = N; omega
  have hBu : Under 256 ((bytesW false l).take N) := (bytesW_under false l).take N
  have hel : ∀ i, i < N → el ((bytesW false l).take N) i = el l (i / 4) / 256 ^ (4 - 1 - i % 4) % 256 := fun i hi => by
    rw [el_take hi, bytesW_el _ _ _ (by rw [h8]; show i < 8 * 4; omega)]; rfl
  have HEL := hide hel
  clear hel
  have hL := Lies.new .u32 122 w l
  go_enter Tryz.func134, Tryz.ntmps134
  go_wp2_with (first | (at_make; refine wpList_make_full _ rfl _ _ 27 rfl w.heap.size 5 i0 (.int .u8 0) 1 Tryz.underlying27 hi hz0 hz1 _ _ _ _ N rfl rfl rfl rfl (by rw [hz2]; omega) (by unfold maxLen; omega) (by simp) ?_; intro w1 hown hgrow) | fail)
  rw [made_u8] at hown
  have hb := (Below.refl (w.alloc (.cells (arr .u32 l) 122)).heap.size (w.alloc (.cells (arr .u32 l) 122))).grown hgrow (Nat.le_refl _) (fun k h => by cases h)
  have hL1 := hL.below hb
  have hb1 := keep_trans (keep_alloc w _) hb
  clear hgrow hL hb
  refine (either_int32 _ _ _).mono ?_
  rintro e w2 ⟨rfl, rfl⟩
  go_wp2
  generalize hO : (bytesW false l).take N = O at *
  have HO := hide hO
  clear hO
  have hown0 : w2.ownsRow w.heap.size 5 1 (.slice (some ⟨w.heap.size + 1, 0, none⟩) N N) N (vals .u8 (pad N (O.take 0))) := by simpa [pad] using hown
  clear hown
  go_loopw [13] (fun i wr => ∃ k : Nat, k ≤ N ∧ i = .int .i64 k ∧ wr.ownsRow w.heap.size 5 1 (.slice (some ⟨w.heap.size + 1, 0, none⟩) N N) N (vals .u8 (pad N (O.take k))) ∧ Lies .u32 122 wr w.heap.size l ∧ Below w.heap.size w wr) (fun i _ => N - (intOf i).toNat)
  case atStart => exact ⟨0, Nat.zero_le _, rfl, hown0, hL1, hb1⟩
  case round =>
    obtain ⟨k, hk, rfl, how, hLk, hbr⟩ := hrel
    clear hown0 hL1 hb1
    by_cases hlt : k < N
    · have htl : (O.take k).length = k := by rw [List.length_take]; omega
      have hpl : (pad N (O.take k)).length = N := pad_length (by omega)
      have c1 := how.cellAt k (by omega)
      rw [vals_get _ _ _ (by omega)] at c1
      have f1 := how.frozenAt k
      have hst := (how.stored k (.int .u8 ((el O k : Nat) : Int))).1
      have hse := pad_set (n := N) (l := O.take k) (by omega) (el O k)
      rw [htl, ← take_el (by omega)] at hse
      rw [vals_set, hse] at hst
      have HST := hide hst
      have c2 := hLk.cell (i := k / 4) (by omega)
      have hkl : el l (k / 4) < 4294967296 := el_lt hu (by decide) _
      have HK := HEL.out k hlt
      have HKH := hide HK
      clear hst hse HK htl hpl
      have ik0 : (0 : Int) ≤ (k : Int) := Int.natCast_nonneg _
      have ik1 : (k : Int) < (N : Int) := by omega
      obtain ⟨q, hq⟩ : ∃ q, q = k / 4 := ⟨_, rfl⟩
      obtain ⟨r, hr⟩ : ∃ r, r = 4 - 1 - k % 4 := ⟨_, rfl⟩
      have k1 : (k : Int).tdiv 4 = (q : Int) := by rw [hq]; rfl
      have k2 : (k : Int) / 4 = (q : Int) := by rw [hq]; omega
      have k3 : IntKind.i64.wrap (q : Int) = (q : Int) := by rw [IntKind.wrap_i64]; omega
      have k4 : (q : Int) < 8 := by omega
      have k5 : (0 : Int) ≤ (q : Int) := Int.natCast_nonneg _
      have k6 : (k : Int).tmod 4 = 3 - (r : Int) := by rw [hr]; have : (k : Int).tmod 4 = ((k % 4 : Nat) : Int) := rfl; rw [this]; omega
      have k7 : (k : Int) % 4 = 3 - (r : Int) := by omega
      have k8 : q < 8 := by omega
      have k9 : r < 4 := by omega
      rw [← hq] at c2 hkl
      have HQ := hide hq
      have HR := hide hr
      clear hq hr
      go_wp2
      go_region
      go_wp2
      have ev : (el l q : Int) / 2 ^ (8 * (3 - (3 - r))) % 256 = ((el O k : Nat) : Int) := by
        rw [show 3 - (3 - r) = r by omega, byte_shr, HKH.out, ← HQ.out, ← HR.out]
      rw [ev]
      exact ⟨⟨k + 1, by omega, by go_num, HST.out, hLk.but ((But.setCell (But.refl (w.heap.size + 1) _) _ _).drew) (by omega), (hbr.setCell (by simp) _).drew⟩, by simp [intOf]; omega⟩
    · obtain rfl : k = N := by omega
      rw [List.take_of_length_le (by omega), pad_full hlen] at how
      go_wp2
      go_ret
      exact ⟨_, rfl, by rw [HO.out]; exact ⟨by rw [hlen]; exact how, hBu⟩, hbr⟩
theorem block_keep32 (v : Value) (w : World) :
    Calls Tryz.prog 118 #[v] w fun e w' => e = .returned (.int .i64 64) ∧ w = w' :=
  (block_any32 v w).mono fun _ _ ⟨h1, h2⟩ => ⟨h1, h2.symm⟩
theorem head_range32 {k : IntKind} {t : TypeId} {w : World} {g : Nat} {l c : List Nat} (h : Lies k t w g (l ++ c)) : w.rangeAt g 0 (vals k l) := fun j v hv => by
  have hj : j < l.length := by have := (List.getElem?_eq_some_iff.1 hv).1; rwa [vals_length] at this
  rw [Nat.zero_add, h.cell (by rw [List.length_append]; omega), el_app_left hj, ← vals_get k l j hj]; exact hv
theorem resume_is32 (ws : List Nat) (w : World) (h8 : ws.length = 8) (hu : Under 4294967296 ws) :
    Calls Tryz.prog 117 #[.agg #[.int .u64 (el ws 0), .int .u64 (el ws 1), .int .u64 (el ws 2), .int .u64 (el ws 3), .int .u64 (el ws 4), .int .u64 (el ws 5), .int .u64 (el ws 6), .int .u64 (el ws 7)], .agg (vals .u64 cubes).toArray] w fun e w' => ∃ g, e = .returned (.pointer (some ⟨g, 0, none⟩)) ∧ w.heap.size ≤ g ∧ Sm32 w' g ws (ks false) ∧ Below w.heap.size w w' := by
  rw [← arr8 .u64 ws h8]
  exact resume_any32 ws cubes w h8 hu cubes_length cubes_under
theorem room_le32 (n : Nat) : 8 ≤ room false n ∧ room false n ≤ 128 := by
  unfold room
  have e : bz false = 64 := rfl
  rw [e]
  split <;> omega
theorem endS_is32 (ws l : List Nat) (size n : Nat) : (bytesW false (eat false (eat false ws l) (left false l ++ fill false l.length size))).take n = endS false ws l size n := by
  unfold endS
  rw [eat_parts false ws l (fill false l.length size)]
theorem finish_any32 (kind : Int) (ws : List Nat) (tv : Value) (tl : List Nat) (size N : Nat) (w : World) (hT : Roots w) (h8 : ws.length = 8) (hu : Under 4294967296 ws) (hRt : Row .u8 256 w tv tl) (tT : Tidy tv) (htl : tl.length ≤ 100000) (hsz : size < 1152921504606846976) (hN : N ≤ 32) :
    Calls Tryz.prog 123 #[.agg (hv kind ws tv size), .int .i64 N] w fun e w' => ∃ v', e = .returned v' ∧ Own 5 .u8 256 w' w.heap.size v' (endS false ws tl size N) ∧ Below w.heap.size w w' := by
  have hb0 := keep_alloc w (.cells (hv kind ws tv size) 89)
  have hT0 := (hT.below hb0).1
  have hH0 := Hb.new w kind ws tv size
  obtain ⟨ta, tc, rfl⟩ := hRt.form
  have HH := hide hH0
  have HB := hide hb0
  clear hH0 hb0
  have huv : hv kind ws (.slice ta tl.length tc) size = #[.int .i64 kind, .int .u64 (el ws 0), .int .u64 (el ws 1), .int .u64 (el ws 2), .int .u64 (el ws 3), .int .u64 (el ws 4), .int .u64 (el ws 5), .int .u64 (el ws 6), .int .u64 (el ws 7), .slice ta tl.length tc, .int .u64 size] := rfl
  rw [huv]
  clear huv
  go_enter Tryz.func123, Tryz.ntmps123
  go_wp2_with (first
    | (refine wpList_load_mid rfl 113 _ (by rfl) 2 0 (by rfl) (vals .u64 cubes) (.array 80 26) hT0 (by kernel_rfl) rfl (by kernel_rfl) ?_)
    | fail)
  refine (resume_is32 ws _ h8 hu).mono ?_
  rintro e w1 ⟨g, rfl, hg, hS1, hb1⟩
  have hW2 : w.heap.size + 1 ≤ g := by have := hg; simp at this; omega
  have hge : w.heap.size ≠ g := by omega
  have hH1 := HH.out.below hb1
  have hbw := keep_trans HB.out hb1
  have hRt1 := hRt.below hbw
  have hAt : Away g (.slice ta tl.length tc) tl := hRt.away (by omega)
  have c9 := hH1.tail
  clear HH HB hb1 hg
  go_wp2_with fail
  refine (take_any32 g ws tl _ w1 hS1 h8 hu hRt1 hAt tT (by omega)).mono ?_
  rintro e w2 ⟨⟨v2, rfl, hR2, hA2, hT2⟩, hS2, hB2⟩
  obtain ⟨a2, c2, rfl⟩ := hR2.form
  have hH2 := hH1.but hB2 hge
  have hbw2 : Below w.heap.size w w2 := hbw.trans (hB2.below (by omega) hbw.size)
  have hll : (left false tl).length = tl.length % 64 := left_length false tl
  have hlt := left_lt false tl
  have hbz : bz false = 64 := rfl
  rw [hbz] at hlt
  have he8 := eat_len (b := false) tl h8
  have heu := eat_under (b := false) tl hu
  obtain ⟨R, hR⟩ : ∃ R, R = 64 - (left false tl).length - 1 := ⟨_, rfl⟩
  have hrm : room false tl.length = if R < 8 then R + 64 else R := by
    unfold room
    rw [hbz, ← hll, ← hR]
  have hRb : R < 64 := by omega
  have HL := hide hll
  generalize hn2 : (left false tl).length = n2 at *
  have HN2 := hide hn2
  have y1 : (64 : Int) - (n2 : Int) = ((R + 1 : Nat) : Int) := by omega
  have y2 : ((R + 1 : Nat) : Int) - 1 = (R : Int) := by omega
  have HR := hide hR
  have HRM := hide hrm
  have hrr := room_le32 tl.length
  clear hR hrm c9 hH1 hbw hRt1 hAt hS1 hB2 hbz hll hn2
  obtain ⟨Q, hQ⟩ : ∃ Q, Q = R + 1 := ⟨_, rfl⟩
  rw [← hQ] at y1 y2
  have hQb : Q ≤ 64 := by omega
  have c10 := hH2.size
  have hm8 : (8 : Int) * (size : Int) = ((8 * size : Nat) : Int) := by omega
  obtain ⟨bs, hbs⟩ : ∃ bs, bs = 8 * size := ⟨_, rfl⟩
  rw [← hbs] at hm8
  have hbw8 : IntKind.u64.wrap (bs : Int) = (bs : Int) := by rw [IntKind.wrap_u64]; omega
  have hbsb : bs < 18446744073709551616 := by omega
  have HBS := hide hbs
  clear hQ hbs
  have key : ∀ (M : Nat) , M = room false tl.length → fill false tl.length size = [128] ++ (leL bs M).reverse := fun M hM => by unfold fill; rw [HBS.out, hM]
  have HKEY := hide key
  clear key
  by_cases hr8 : R < 8
  · skip
    obtain ⟨M, hM⟩ : ∃ M, M = R + 64 := ⟨_, rfl⟩
    have hMi : (R : Int) + 64 = (M : Int) := by omega
    have hMr : M = room false tl.length := by rw [HRM.out, if_pos hr8, hM]
    have hr8i : (R : Int) < 8 := by omega
    have hfl0 := HKEY.out M hMr
    have hMb : 8 ≤ M ∧ M ≤ 128 := by omega
    clear hM hMr
    have hleS : (leS bs (M : Int)).reverse = (leL bs M).reverse := by unfold leS; rw [if_neg (by omega), Int.toNat_natCast]
    have hl3 : (leL bs M).reverse.length = M := by rw [List.length_reverse, leL_length]
    generalize (leL bs M).reverse = L3 at *
    have HFL := hide hfl0
    have HL3 := hide hl3
    clear hfl0 hl3
    have c10' : (w2.alloc (.cells #[.int .u8 128] 5)).cell? ⟨w.heap.size, 10, none⟩ = some (.int .u64 size) := keep_cell c10 (keep_alloc _ _)
    have h128 : Row .u8 256 (w2.alloc (.cells #[.int .u8 128] 5)) (.slice (some ⟨w2.heap.size, 0, none⟩) 1 1) [128] := lit_row .u8 256 w2 [128] 5 (Under.one (by decide)) (by unfold maxLen; decide)
    go_wp2_with (first
      | (go_at_call 118; refine (block_keep32 _ _).mono ?_; rintro e w9 ⟨rfl, rfl⟩)
      | (go_at_call 28; refine (be_any bs (M : Int) _ hbsb (by omega) (by omega)).mono ?_; rintro e w3 ⟨v3, rfl, hO3, hb3⟩; rw [hleS] at hO3; obtain ⟨a3, c3, rfl⟩ := hO3.row.form)
      | (go_at_call 32; refine (join_any _ [left false tl, [128], L3] _ (rows_lit3 (hR2.below (keep_trans (keep_alloc _ _) hb3)) (h128.below hb3) hO3.row hT2 (tidy_at _ _ _) hO3.tidy) (by have := hMb.2; have := HN2.out; have := HL3.out; simp; omega)).mono ?_; rintro e w4 ⟨v4, rfl, hO4, hb4⟩; have hfe : ([left false tl, [128], L3] : List (List Nat)).flatten = left false tl ++ fill false tl.length size := (by rw [HFL.out]; simp); rw [hfe] at hO4; clear hfe)
      | (go_at_call 119; refine (take_any32 g _ _ _ w4 ((hS2.below (keep_trans (keep_alloc w2 _) hb3)).alloc _ |>.below hb4) he8 heu hO4.row (hO4.away (by have := hS2.lt; have := hb3.size; simp at *; omega)) hO4.tidy (by have := hMb.2; have := HN2.out; have := HL3.out; rw [HFL.out]; simp; omega)).mono ?_; rintro e w5 ⟨⟨v5, rfl, hR5, hA5, hT5⟩, hS5, hB5⟩; have hq8 := eat_len (b := false) (left false tl ++ fill false tl.length size) he8; have hqu := eat_under (b := false) (left false tl ++ fill false tl.length size) heu; have hrg := head_range32 hS5)
      | (refine wpList_load_mid rfl 122 _ (by rfl) g 0 (by rfl) _ (.array 8 42) hrg (by kernel_rfl) rfl (by rw [vals_length, hq8]; kernel_rfl) ?_)
      | (go_at_call 134; refine (bytes_any32 _ N w5 hq8 hqu hN).mono ?_; rintro e w6 ⟨v6, rfl, hO6, hb6⟩)
      | fail)
    have hbw4 : Below w.heap.size w w4 := keep_trans hbw2 (keep_trans (keep_trans (keep_alloc w2 _) hb3) (keep_trans (keep_alloc w3 _) hb4))
    have hbw5 := hbw4.trans (hB5.below (by omega) hbw4.size)
    rw [endS_is32] at hO6
    go_ret
    exact ⟨_, rfl, hO6.mono hbw5.size, keep_trans hbw5 hb6⟩
  · skip
    obtain ⟨M, hM⟩ : ∃ M, M = R := ⟨_, rfl⟩
    have hMr : M = room false tl.length := by rw [HRM.out, if_neg hr8, hM]
    have hr8i : ¬ (R : Int) < 8 := by omega
    subst hM
    have hfl0 := HKEY.out M hMr
    have hMb : 8 ≤ M ∧ M ≤ 128 := by omega
    clear hMr
    have hleS : (leS bs (M : Int)).reverse = (leL bs M).reverse := by unfold leS; rw [if_neg (by omega), Int.toNat_natCast]
    have hl3 : (leL bs M).reverse.length = M := by rw [List.length_reverse, leL_length]
    generalize (leL bs M).reverse = L3 at *
    have HFL := hide hfl0
    have HL3 := hide hl3
    clear hfl0 hl3
    have c10' : (w2.alloc (.cells #[.int .u8 128] 5)).cell? ⟨w.heap.size, 10, none⟩ = some (.int .u64 size) := keep_cell c10 (keep_alloc _ _)
    have h128 : Row .u8 256 (w2.alloc (.cells #[.int .u8 128] 5)) (.slice (some ⟨w2.heap.size, 0, none⟩) 1 1) [128] := lit_row .u8 256 w2 [128] 5 (Under.one (by decide)) (by unfold maxLen; decide)
    go_wp2_with (first
      | (go_at_call 118; refine (block_keep32 _ _).mono ?_; rintro e w9 ⟨rfl, rfl⟩)
      | (go_at_call 28; refine (be_any bs (M : Int) _ hbsb (by omega) (by omega)).mono ?_; rintro e w3 ⟨v3, rfl, hO3, hb3⟩; rw [hleS] at hO3; obtain ⟨a3, c3, rfl⟩ := hO3.row.form)
      | (go_at_call 32; refine (join_any _ [left false tl, [128], L3] _ (rows_lit3 (hR2.below (keep_trans (keep_alloc _ _) hb3)) (h128.below hb3) hO3.row hT2 (tidy_at _ _ _) hO3.tidy) (by have := hMb.2; have := HN2.out; have := HL3.out; simp; omega)).mono ?_; rintro e w4 ⟨v4, rfl, hO4, hb4⟩; have hfe : ([left false tl, [128], L3] : List (List Nat)).flatten = left false tl ++ fill false tl.length size := (by rw [HFL.out]; simp); rw [hfe] at hO4; clear hfe)
      | (go_at_call 119; refine (take_any32 g _ _ _ w4 ((hS2.below (keep_trans (keep_alloc w2 _) hb3)).alloc _ |>.below hb4) he8 heu hO4.row (hO4.away (by have := hS2.lt; have := hb3.size; simp at *; omega)) hO4.tidy (by have := hMb.2; have := HN2.out; have := HL3.out; rw [HFL.out]; simp; omega)).mono ?_; rintro e w5 ⟨⟨v5, rfl, hR5, hA5, hT5⟩, hS5, hB5⟩; have hq8 := eat_len (b := false) (left false tl ++ fill false tl.length size) he8; have hqu := eat_under (b := false) (left false tl ++ fill false tl.length size) heu; have hrg := head_range32 hS5)
      | (refine wpList_load_mid rfl 122 _ (by rfl) g 0 (by rfl) _ (.array 8 42) hrg (by kernel_rfl) rfl (by rw [vals_length, hq8]; kernel_rfl) ?_)
      | (go_at_call 134; refine (bytes_any32 _ N w5 hq8 hqu hN).mono ?_; rintro e w6 ⟨v6, rfl, hO6, hb6⟩)
      | fail)
    have hbw4 : Below w.heap.size w w4 := keep_trans hbw2 (keep_trans (keep_trans (keep_alloc w2 _) hb3) (keep_trans (keep_alloc w3 _) hb4))
    have hbw5 := hbw4.trans (hB5.below (by omega) hbw4.size)
    rw [endS_is32] at hO6
    go_ret
    exact ⟨_, rfl, hO6.mono hbw5.size, keep_trans hbw5 hb6⟩
end Go.Proofs.YtpmobjfhhkglbaaGreatDoor
