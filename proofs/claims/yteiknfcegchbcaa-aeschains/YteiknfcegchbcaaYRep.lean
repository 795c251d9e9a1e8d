/- bytes.Repeat of one byte. -/
import Derived.Test.YteiknfcegchbcaaJGa
import Derived.Lib.SlBuf
import Derived.Lib.MakeNoZero
import Derived.Deep.RegionLaw
import Derived.Test.YteiknfcegchbcaaBase
import Derived.Laws.AppendOwnNone
import Derived.Test.YteiknfcegchbcaaBitm
import Derived.Test.YteiknfcegchbcaaHKi2
namespace Go.Proofs.Yteiknfcegchbcaa
open Go.RowKit
set_option linter.unusedVariables false
set_option linter.unusedSimpArgs false

/-- copy, as one step of a region that draws -/
theorem step_copy_run {P : Program} {ops : Array Oper} {o : Oper} {a : Act} {w : World} {K : Act → World → Prop} {Q : Exit → Act → World → Prop} {E : Prop} (hg : o.guard = none) (d s : Operand) (t t' : TypeId)
    (ho : o.op = .call { callee := .builtin .copy, args := #[d, s], argTypes := #[t, t'] }) (v u : Value) (hd : a.eval d = v) (hs : a.eval s = u) {v' : Value} {w' : World}
    (hr : (Builtin.copy_ #[t, t'] o.type #[v, u]).run P w = .ok v' w') (hK : K (a.put o.dst v') w') : if Region.wanted o (yielded ops a.tmps) = true then Oper.wp P o a w K Q else E := by
  have hw : Region.wanted o (yielded ops a.tmps) = true := by simp [Region.wanted, hg]
  rw [if_pos hw]
  exact Lib.wp_copy_run w d s t t' ho v u hd hs hr hK
/-- a buffer of N bytes in block h, of which the first k are x -/
structure Rep (w0 wr : World) (h N x k : Nat) : Prop where
  below : Below h w0 wr
  there : ∀ j, j < N → (wr.cell? ⟨h, j, none⟩).isSome = true
  free : ∀ j, j < N → wr.frozen? ⟨h, j, none⟩ = false
  holds : ∀ j, j < k → wr.cell? ⟨h, j, none⟩ = some (.int .u8 (x : Int))
  fits : k ≤ N
def xs8 (m x : Nat) : List Value := List.replicate m (Value.int .u8 (x : Int))
theorem xs8_length (m x : Nat) : (xs8 m x).length = m := by simp [xs8]
theorem xs8_one (m x : Nat) : ∀ u ∈ xs8 m x, u.oneCell' = true := fun u hu => by rw [List.eq_of_mem_replicate hu]; rfl
theorem xs8_get {m x j : Nat} {u : Value} (h : (xs8 m x)[j]? = some u) : j < m ∧ u = .int .u8 (x : Int) := by
  unfold xs8 at h
  rw [List.getElem?_replicate] at h
  split at h
  · exact ⟨by assumption, (Option.some.inj h).symm⟩
  · cases h
theorem Rep.drewN {w0 wr : World} {h N x k : Nat} (hr : Rep w0 wr h N x k) (q : Nat) : Rep w0 (wr.drewN q) h N x k :=
  ⟨below_drewN hr.below q, fun j hj => by rw [World.cell?_drewN]; exact hr.there j hj, fun j hj => by rw [World.frozen?_drewN]; exact hr.free j hj, fun j hj => by rw [World.cell?_drewN]; exact hr.holds j hj, hr.fits⟩
theorem Rep.more {w0 wr : World} {h N x k : Nat} (hr : Rep w0 wr h N x k) {m : Nat} (hm : k + m ≤ N) : Rep w0 (wr.setCells h k (xs8 m x)) h N x (k + m) := by
  have hin := World.cell?_setCells_in h (xs8 m x) k wr (fun j hj => by rw [xs8_length] at hj; exact hr.there _ (by omega))
  have hout := World.cell?_setCells_out h (xs8 m x) k wr
  refine ⟨Lib.below_setCells h (Nat.le_refl _) _ _ hr.below, ?_, fun j hj => by rw [World.frozen?_setCells]; exact hr.free j hj, ?_, hm⟩
  · intro j hj
    by_cases h1 : k ≤ j ∧ j < k + m
    · obtain ⟨d, rfl⟩ : ∃ d, j = k + d := ⟨j - k, by omega⟩
      rw [hin d (by rw [xs8_length]; omega)]
      rfl
    · rw [hout ⟨h, j, none⟩ (fun _ _ => by rw [xs8_length]; show j < _ ∨ _ ≤ j; omega)]
      exact hr.there j hj
  · intro j hj
    by_cases h1 : k ≤ j
    · obtain ⟨d, rfl⟩ : ∃ d, j = k + d := ⟨j - k, by omega⟩
      rw [hin d (by rw [xs8_length]; omega)]
      simp [xs8]
    · rw [hout ⟨h, j, none⟩ (fun _ _ => Or.inl (by show j < k; omega))]
      exact hr.holds j (by omega)
/-- the buffer's beginning, laid behind what is filled -/
theorem Rep.copy {P : Program} {w0 wr : World} {h N x k : Nat} (hr : Rep w0 wr h N x k) (hk : 0 < k) (hlt : k < N) (t ty e : TypeId) (hu : P.underlying t = some (.slice e)) (hs : (P.info? e).map (·.size) = some 1) :
    (Builtin.copy_ #[t, t] ty #[Lib.tailV h N k, .slice (some ⟨h, 0, none⟩) k N]).run P wr = .ok (.int .i64 ((min k (N - k) : Nat) : Int)) (wr.setCells h k (xs8 (min k (N - k)) x)) := by
  have := run_copy_cells (P := P) wr t t ty e h k (N - k) (N - k) ⟨h, 0, none⟩ k N (xs8 (min k (N - k)) x) hu hs (by rw [xs8_length])
    (fun j u hj => by
      obtain ⟨h1, rfl⟩ := xs8_get hj
      rw [Addr.add_lit, Nat.zero_add]
      exact hr.holds j (by omega))
    (fun j hj => by rw [xs8_length] at hj; exact hr.there _ (by omega)) (fun j hj => by rw [xs8_length] at hj; exact hr.free _ (by omega)) (xs8_one _ _)
  rw [xs8_length] at this
  unfold Lib.tailV
  rw [if_neg (by omega)]
  exact this
theorem Rep.row {w0 wr : World} {N x : Nat} (hr : Rep w0 wr w0.heap.size N x N) (hx : x < 256) (hN : N ≤ maxLen) : Row .u8 256 wr (.slice (some ⟨w0.heap.size, 0, none⟩) N N) (List.replicate N x) := by
  have hl : (List.replicate N x).length = N := List.length_replicate
  refine ⟨_, N, by rw [hl], by rw [hl]; exact Nat.le_refl _, hN, fun _ => ⟨_, 0, rfl, fun i hi => ?_⟩, fun y hy => by rw [List.eq_of_mem_replicate hy]; exact hx⟩
  rw [hl] at hi
  rw [Nat.zero_add, hr.holds i hi, el_at (by rw [hl]; exact hi), List.getElem_replicate]

set_option maxHeartbeats 4000000 in
set_option maxRecDepth 100000 in
theorem rep_of (va : Value) (N x : Nat) (w : World) (ha : Row .u8 256 w va [x]) (hN0 : 0 < N) (hN : N ≤ 1000)
    (hmul : ∀ y, Calls Try.prog 62 #[.int .u64 1, .int .u64 (N : Int)] y fun e y' => e = .returned (.tuple #[.int .u64 0, .int .u64 (N : Int)]) ∧ y' = y) :
    Calls Try.prog 54 #[va, .int .i64 (N : Int)] w fun e w' => ∃ v, e = .returned v ∧ Row .u8 256 w' v (List.replicate N x) ∧ New w.heap.size v ∧ Below w.heap.size w w' := by
  have hx := ha.under x (by simp)
  obtain ⟨a, ca, rfl, ha1, ha2, ha3, _⟩ := ha
  obtain ⟨b, off, rfl, hc⟩ := ha3 (by simp)
  have c0 := hc 0 (by simp)
  have el0 : el [x] 0 = x := rfl
  rw [el0] at c0
  rw [List.length_singleton]
  rw [List.length_singleton] at ha1
  have hs5 : (Try.prog.info? 5).map (·.size) = some 1 := by
    obtain ⟨i0, hi, hz0, hz1, hz2⟩ := info_parts Try.info5
    rw [hi]; simp [hz1]
  have n0 : ((N : Int) == 0) = false := by rw [beq_eq_false_iff_ne]; omega
  have n1 : ¬ (N : Int) < 0 := by omega
  have n2 : ¬ (9223372036854775807 : Int) < (N : Int) := by omega
  have n3 : ¬ (8192 : Int) < (N : Int) := by omega
  have s_N : IntKind.i64.wrap (N : Int) = (N : Int) := by rw [IntKind.wrap_i64]; omega
  have u_N : IntKind.u64.wrap (N : Int) = (N : Int) := by rw [IntKind.wrap_u64]; omega
  obtain ⟨cs, hrunM, hle, _⟩ := Lib.run_makeNoZero (P := Try.prog) w #[3] 22 5 Try.underlying22 N (by omega)
  have hcall : (callFunc 63 #[.int .i64 (N : Int)]).run Try.prog w = .ok (.value (.slice (some ⟨w.heap.size, 0, none⟩) N cs.size)) ((w.alloc (.cells cs 5)).drewN 2) := by
    rw [run_callFunc_extern Try.func63 (by kernel_rfl) (by kernel_rfl) (by kernel_rfl) (e := Extern.BytealgMakeNoZero.makeNoZero #[3] #[22]) (by kernel_rfl), hrunM]
    rfl
  clear hrunM
  have i0 : (0 : Int) ≤ (N : Int) := by omega
  have i1 : (N : Int) ≤ (cs.size : Int) := by omega
  have B0 := Lib.Buf.start w cs 5 N 2 hle
  have R0 : Rep w ((w.alloc (.cells cs 5)).drewN 2) w.heap.size N x 0 := ⟨B0.below, B0.there, B0.free, fun j hj => by omega, Nat.zero_le _⟩
  have R1 := R0.more (m := 1) (by omega)
  have hr1 := run_copy_cells (P := Try.prog) ((w.alloc (.cells cs 5)).drewN 2) 22 22 3 5 w.heap.size 0 N N ⟨b, off, none⟩ 1 ca (xs8 1 x) Try.underlying22 hs5 (by rw [xs8_length]; exact (Nat.min_eq_left (by omega)).symm)
    (fun j u hj => by
      obtain ⟨h1, rfl⟩ := xs8_get hj
      obtain rfl : j = 0 := by omega
      exact Lib.Below.cellOf R0.below c0 (Nat.le_refl _))
    (fun j hj => by rw [xs8_length] at hj; exact R0.there _ (by omega)) (fun j hj => by rw [xs8_length] at hj; exact R0.free _ (by omega)) (xs8_one _ _)
  rw [xs8_length] at hr1
  have HR1 := hide R1
  clear R1 R0 B0 hc ha3 c0
  generalize ((w.alloc (.cells cs 5)).drewN 2).setCells w.heap.size 0 (xs8 1 x) = w1 at *
  go_enter Try.func54, Try.ntmps54
  go_wp2_with (first
    | (go_at_call 62; refine (hmul _).mono ?_; rintro e y ⟨rfl, hy⟩; obtain rfl := hy.symm)
    | (at_builtin; refine Lib.wpList_copy_run _ rfl _ _ 22 22 rfl _ _ rfl rfl hr1 ?_)
    | fail)
  clear hr1 hcall
  go_loopw [10] (fun p wr => ∃ k : Nat, 0 < k ∧ p = .int .i64 (k : Int) ∧ Hid (Rep w wr w.heap.size N x k)) (fun p _ => N - (intOf p).toNat)
  case atStart => exact ⟨1, by decide, rfl, HR1⟩
  case round =>
    obtain ⟨k, hk, rfl, HR⟩ := hrel
    have hkN := HR.out.fits
    clear HR1
    by_cases hlt : k < N
    · have k1 : (k : Int) < (N : Int) := by omega
      have k2 : ¬ (N : Int) < (k : Int) := by omega
      have k3 : ¬ N < k := by omega
      have k0 : (0 : Int) ≤ (k : Int) := by omega
      have mn : min (k : Int) (N : Int) = (k : Int) := by omega
      have hsl1 : ∀ W, (Instr.slice 22 (.slice (some ⟨w.heap.size, 0, none⟩) N N) (some (.int .i64 (k : Int))) none none).run Try.prog W = .ok (Lib.tailV w.heap.size N k) W := fun W => Lib.run_slice_tailV W 22 5 Try.underlying22 Try.sizeOf5 _ N k (by omega)
      have hcp := fun y (hy : Rep w y w.heap.size N x k) => Rep.copy (P := Try.prog) hy hk hlt 22 3 5 Try.underlying22 hs5
      have hmo := fun y (hy : Rep w y w.heap.size N x k) => Rep.more hy (m := min k (N - k)) (by omega)
      have HM1 : Hid (k < k + min k (N - k) ∧ k + min k (N - k) ≤ N) := hide ⟨by omega, by omega⟩
      generalize min k (N - k) = m at *
      obtain ⟨k', hk'⟩ : ∃ z : Nat, z = k + m := ⟨_, rfl⟩
      rw [← hk'] at hmo HM1
      have e_k : (k : Int) + (m : Int) = (k' : Int) := by omega
      have hkl := HM1.out
      have s_k : IntKind.i64.wrap (k' : Int) = (k' : Int) := by rw [IntKind.wrap_i64]; omega
      clear hk' hkl
      go_wp2_with fail
      go_region_law (refine step_copy_run rfl (.tmp 70) (.tmp 73) 22 22 rfl (Lib.tailV w.heap.size N k) (.slice (some ⟨w.heap.size, 0, none⟩) k N) (by simp [Act.eval, Act.put]) (by simp [Act.eval, Act.put]) (hcp _ (by first | exact HR.out | exact HR.out.drewN 1)) ?_)
      all_goals
        have HR2 := hide (hmo wr.drew (HR.out.drewN 1))
        simp (config := { zetaDelta := true }) only [Exit.inBlock, Exit.then]
        refine ⟨?_, ?measure⟩
        case measure => simp [intOf, Act.put, e_k, s_k]; have := HM1.out; omega
        exact ⟨_, _, _, _, _, _, _, _, _, _, _, _, _, _, _, _, _, ⟨k', by have := HM1.out; omega, rfl, HR2⟩, by simp [Act.put, e_k, s_k]; (repeat' (first | rfl | apply And.intro))⟩
    · obtain rfl : k = N := by omega
      go_wp2
      go_ret
      exact ⟨_, rfl, HR.out.row hx (by unfold maxLen; omega), New.at (Nat.le_refl _), HR.out.below⟩
end Go.Proofs.Yteiknfcegchbcaa

/- Contract of apostilleref01.Join. -/
namespace Go.Proofs.Yteiknfcegchbcaa
open Go.RowKit
set_option linter.unusedVariables false

end Go.Proofs.Yteiknfcegchbcaa

/- Contracts of bits.Join, apostilleref01.Join. -/
namespace Go.Proofs.Yteiknfcegchbcaa
open Go.RowKit
set_option linter.unusedVariables false

set_option maxHeartbeats 1000000 in
theorem join_any (va : Value) (ls : List (List Nat)) (w : World) (ha : Rows2 w va ls) (hs : ls.flatten.length ≤ 1000000) :
    Calls Try.prog 33 #[va] w fun e w' => ∃ v, e = .returned v ∧ Own 5 .u8 256 w' w.heap.size v ls.flatten ∧ Below w.heap.size w w' := by
  have hu := ha.under
  have ha' := ha
  obtain ⟨a, ca, rfl, ha1, ha2, ha3⟩ := ha
  unfold maxLen at ha2
  obtain ⟨i0, hi, hz0, hz1, hz2⟩ := info_parts Try.info5
  go_enter Try.func33, Try.ntmps33
  go_wp2
  go_loop [3, 11] (fun s i => ∃ k : Nat, k ≤ ls.length ∧ i = .int .i64 k ∧ s = .int .i64 ((ls.take k).flatten.length : Nat)) (fun _ i => ls.length - (intOf i).toNat)
  case atStart => exact ⟨0, Nat.zero_le _, rfl, rfl⟩
  case round =>
    obtain ⟨k, hk, rfl, rfl⟩ := hrel
    by_cases hlt : k < ls.length
    · have hf := flat_succ hlt
      have hle := flat_le ls (k + 1)
      rw [hf, List.length_append] at hle
      obtain ⟨b, off, rfl, hc⟩ := ha3 (by omega)
      obtain ⟨u, c1, ⟨au, cu, rfl, hu1, hu2, hu3, hu4⟩, htidy⟩ := hc k hlt
      clear hc ha3
      have HF := hide hf
      clear hf
      generalize hM : (ls.take k).flatten.length = M at *
      have HM := hide hM
      clear hM
      generalize hT : (tx ls k).length = T at *
      have HT := hide hT
      clear hT
      go_wp2
      go_round
      case rel => exact ⟨k + 1, by omega, by go_num, vint (by rw [HF.out, List.length_append, HM.out, HT.out]; simp)⟩
      case measure => simp [intOf]; omega
    · have hkl : k = ls.length := by omega
      subst hkl
      rw [List.take_of_length_le (Nat.le_refl _)]
      generalize hM : ls.flatten.length = M at *
      have HM := hide hM
      clear hM
      go_wp2_with fail
      refine (room8_any M _ (by omega)).mono ?_
      rintro e w1 ⟨v, rfl, ⟨ho, _⟩, hb⟩
      go_wp2
      go_loopw [6, 24] (fun v i wr => ∃ k : Nat, k ≤ ls.length ∧ i = .int .i64 k ∧ wr.ownsRow w.heap.size 5 1 v (ls.take k).flatten.length (vals .u8 (ls.take k).flatten) ∧ Below w.heap.size w wr) (fun _ i _ => ls.length - (intOf i).toNat)
      case atStart => exact ⟨0, Nat.zero_le _, rfl, ho, hb⟩
      case round =>
        obtain ⟨k, hk, rfl, how, hbr⟩ := hrel
        clear ho hb
        by_cases hlt : k < ls.length
        · have hf := flat_succ hlt
          have hle := flat_le ls (k + 1)
          rw [hf, List.length_append, HM.out] at hle
          obtain ⟨a2, ca2, he, _, _, h3⟩ := ha'.below hbr
          obtain ⟨rfl, rfl⟩ : a = a2 ∧ ca = ca2 := by simpa using he
          obtain ⟨b, off, rfl, hc⟩ := h3 (by omega)
          obtain ⟨u, c1, ⟨au, cu, rfl, hu1, hu2, hu3, hu4⟩, htidy⟩ := hc k hlt
          clear hc h3 he ha3
          have hsz := hbr.size
          have HF := hide hf
          clear hf
          generalize hM2 : (ls.take k).flatten = M2 at *
          have HM2 := hide hM2
          clear hM2
          generalize hT : tx ls k = T at *
          have HT := hide hT
          clear hT
          cases au with
          | none =>
            obtain ⟨h0, rfl⟩ := htidy _ _ rfl
            have hT0 : T = [] := List.eq_nil_of_length_eq_zero h0
            subst hT0
            go_wp2_with (first | (at_builtin; refine wpList_append_own_none rfl _ _ 22 rfl w.heap.size 5 i0 1 Try.underlying22 hi _ _ _ rfl how rfl ?_) | fail)
            go_roundw
            case rel => exact ⟨k + 1, by omega, by go_num, by rw [HF.out, List.append_nil]; exact how, hbr⟩
            case measure => simp [intOf]; omega
          | some x =>
            go_wp2_with (first | (at_builtin; refine wpList_append_own _ rfl _ _ 22 rfl w.heap.size 5 i0 (.int .u8 0) 1 1 Try.underlying22 hi hz0 hz1 hz2 rfl (by decide) _ _ _ rfl how x T.length cu (vals .u8 T) rfl (by rw [vals_length, Nat.mul_one]) (cells_news hu3) (vals_one _ _) (by unfold maxLen; omega) (by omega) hsz ?_; intro v' w3 how' hgrow _) | fail)
            have hb3 := below_append' hbr hsz how hgrow
            clear how hgrow hbr
            go_roundw
            case rel => exact ⟨k + 1, by omega, by go_num, by rw [HF.out, List.length_append, vals_append]; exact how', hb3⟩
            case measure => simp [intOf]; omega
        · go_wp2
          go_ret
          rw [List.take_of_length_le (by omega)] at how
          exact ⟨_, rfl, ⟨how, hu⟩, hbr⟩
end Go.Proofs.Yteiknfcegchbcaa

/- Contract of bits.Same. -/
namespace Go.Proofs.Yteiknfcegchbcaa
open Go.RowKit
set_option linter.unusedVariables false

theorem xor_zero (x y : Nat) : x ^^^ y = 0 ↔ x = y := by
  constructor
  · intro h
    have h1 : x ^^^ y ^^^ y = 0 ^^^ y := by rw [h]
    rw [Nat.xor_assoc, Nat.xor_self, Nat.xor_zero, Nat.zero_xor] at h1
    exact h1
  · rintro rfl; exact Nat.xor_self _
theorem or_zero (x y : Nat) : x ||| y = 0 ↔ x = 0 ∧ y = 0 := by
  constructor
  · intro h
    have h1 : x ≤ x ||| y := Nat.left_le_or
    have h2 : y ≤ x ||| y := Nat.right_le_or
    omega
  · rintro ⟨rfl, rfl⟩; rfl

theorem step_differ (d x y : Nat) (hd : d < 256) (hx : x < 256) (hy : y < 256) : bits .or .u8 (d : Int) (bits .xor .u8 (x : Int) (y : Int)) = ((d ||| (x ^^^ y) : Nat) : Int) := by
  rw [u8_xor_nat x y hx hy, u8_or_nat d _ hd (Nat.xor_lt_two_pow (n := 8) hx hy)]

set_option maxHeartbeats 400000 in
theorem bsame_any (va vb : Value) (l m : List Nat) (w : World) (ha : Row .u8 256 w va l) (hb : Row .u8 256 w vb m) :
    Calls Try.prog 57 #[va, vb] w fun e w' => e = .returned (.bool (decide (l = m))) ∧ Below w.heap.size w w' := by
  obtain ⟨a, ca, rfl, ha1, ha2, ha3, ha4⟩ := ha
  obtain ⟨b, cb, rfl, hb1, hb2, hb3, hb4⟩ := hb
  unfold maxLen at ha2 hb2
  by_cases hlen : l.length = m.length
  · have hne : ((l.length : Int) != (m.length : Int)) = false := by simp [hlen]
    have H : Hid (l.length = m.length) := hlen
    have hle1 : l.length ≤ m.length := by omega
    have hle2 : m.length ≤ l.length := by omega
    clear hlen
    go_enter Try.func57, Try.ntmps57
    go_wp2
    go_loopw [5, 14] (fun d i wr => ∃ k n D : Nat, k ≤ l.length ∧ i = .int .i64 k ∧ d = .int .u8 D ∧ D < 256 ∧ wr = w.drewN n ∧ (D = 0 ↔ ∀ j, j < k → el l j = el m j)) (fun _ i _ => l.length - (intOf i).toNat)
    case atStart => exact ⟨0, 0, 0, Nat.zero_le _, rfl, rfl, by decide, rfl, ⟨fun _ j hj => by omega, fun _ => rfl⟩⟩
    case round =>
      obtain ⟨k, n, D, hk, rfl, rfl, hD, rfl, hall⟩ := hrel
      have HA := hide hall
      clear hall
      by_cases hlt : k < l.length
      · obtain ⟨ba, oa, rfl, hca⟩ := ha3 (by omega)
        obtain ⟨bb, ob, rfl, hcb⟩ := hb3 (by omega)
        have c1 := hca k hlt
        have c2 := hcb k (by omega)
        clear hca hcb
        have hlt2 : k < m.length := by omega
        have hx := el_lt ha4 (by decide) k
        have hy := el_lt hb4 (by decide) k
        go_wp2
        go_quiet (fail)
        go_wp2
        go_roundw
        case rel =>
          refine ⟨k + 1, _, D ||| (el l k ^^^ el m k), by omega, by go_num, vint (step_differ D _ _ hD hx hy), ?_, rfl, ?_⟩
          · exact Nat.or_lt_two_pow (n := 8) hD (Nat.xor_lt_two_pow (n := 8) hx hy)
          · rw [or_zero, xor_zero, HA.out]
            constructor
            · rintro ⟨h1, h2⟩ j hj
              by_cases hjk : j = k
              · subst hjk; exact h2
              · exact h1 j (by omega)
            · intro h
              exact ⟨fun j hj => h j (by omega), h k (by omega)⟩
        case measure => simp [intOf]; omega
      · go_wp2
        go_ret
        refine ⟨ret_bool ?_, below_drewN (Below.refl _ _) _⟩
        have hiff : D = 0 ↔ l = m := by
          rw [HA.out]
          constructor
          · intro h
            exact el_ext H.out (fun i hi => h i (by omega))
          · rintro rfl j _; rfl
        by_cases hz : l = m
        · have : D = 0 := hiff.2 hz
          simp [hz, this]
        · have : ¬ D = 0 := fun h => hz (hiff.1 h)
          simp [hz]
          omega
  · have hne : ((l.length : Int) != (m.length : Int)) = true := by simp; omega
    have hd : decide (l = m) = false := by simp; intro h; exact hlen (by rw [h])
    go_enter Try.func57, Try.ntmps57
    go_wp2
    go_ret
    exact ⟨ret_bool hd.symm, Below.refl _ _⟩
end Go.Proofs.Yteiknfcegchbcaa

/- Sums that go on, as values; the constants; few texts in a new slice. -/
namespace Go.Proofs.Yteiknfcegchbcaa
open Go.RowKit
set_option linter.unusedVariables false
set_option linter.unusedSimpArgs false

/-- a sum that goes on: its cells -/
def hv (kind : Int) (ws : List Nat) (tv : Value) (size : Nat) : Array Value :=
  #[.int .i64 kind, .int .u64 (el ws 0), .int .u64 (el ws 1), .int .u64 (el ws 2), .int .u64 (el ws 3), .int .u64 (el ws 4), .int .u64 (el ws 5), .int .u64 (el ws 6), .int .u64 (el ws 7), tv, .int .u64 size]
/-- a text's value is one cell -/
theorem Row.cell1 {k : IntKind} {m : Nat} {w : World} {u : Value} {l : List Nat} (h : Row k m w u l) : u.oneCell' = true := by
  obtain ⟨a, cap, rfl, _⟩ := h; rfl
theorem Row.form {k : IntKind} {m : Nat} {w : World} {v : Value} {l : List Nat} (h : Row k m w v l) : ∃ a c, v = .slice a l.length c := by
  obtain ⟨a, c, rfl, _⟩ := h; exact ⟨a, c, rfl⟩

theorem range_below {w w' : World} {b o : Nat} {cs : List Value} (h : w.rangeAt b o cs) (hb : Below w.heap.size w w') : w'.rangeAt b o cs := fun j v hv => keep_cell (h j v hv) hb
theorem tidy_at (x : Addr) (n c : Nat) : Tidy (.slice (some x) n c) := fun n c he => by simp at he
theorem tidy_nil : Tidy (.slice none 0 0) := fun a c he => by simp at he; omega
theorem Own.tidy {e : TypeId} {k : IntKind} {m : Nat} {w : World} {B : Nat} {v : Value} {l : List Nat} (h : Own e k m w B v l) : Tidy v := by
  obtain ⟨⟨_, ⟨rfl, _⟩ | ⟨g, cap, cur, rfl, _⟩⟩, _⟩ := h
  · exact tidy_nil
  · exact tidy_at _ _ _
theorem rows_lit2 {w : World} {u v : Value} {a b : List Nat} (hu : Row .u8 256 w u a) (hv : Row .u8 256 w v b) (tu : Tidy u) (tv : Tidy v) :
    Rows2 (w.alloc (.cells #[u, v] 22)) (.slice (some ⟨w.heap.size, 0, none⟩) 2 2) [a, b] := by
  refine ⟨_, 2, rfl, Nat.le_refl _, by unfold maxLen; decide, fun _ => ⟨_, _, rfl, fun i hi => ?_⟩⟩
  have hb := keep_alloc w (.cells #[u, v] 22)
  match i, hi with
  | 0, _ => exact ⟨u, by rw [World.cell?_alloc_at _ _ _ _ rfl]; rfl, hu.below hb, tu⟩
  | 1, _ => exact ⟨v, by rw [World.cell?_alloc_at _ _ _ _ rfl]; rfl, hv.below hb, tv⟩
theorem rows_lit3 {w : World} {u v x : Value} {a b c : List Nat} (hu : Row .u8 256 w u a) (hv : Row .u8 256 w v b) (hx : Row .u8 256 w x c) (tu : Tidy u) (tv : Tidy v) (tx : Tidy x) :
    Rows2 (w.alloc (.cells #[u, v, x] 22)) (.slice (some ⟨w.heap.size, 0, none⟩) 3 3) [a, b, c] := by
  refine ⟨_, 3, rfl, Nat.le_refl _, by unfold maxLen; decide, fun _ => ⟨_, _, rfl, fun i hi => ?_⟩⟩
  have hb := keep_alloc w (.cells #[u, v, x] 22)
  match i, hi with
  | 0, _ => exact ⟨u, by rw [World.cell?_alloc_at _ _ _ _ rfl]; rfl, hu.below hb, tu⟩
  | 1, _ => exact ⟨v, by rw [World.cell?_alloc_at _ _ _ _ rfl]; rfl, hv.below hb, tv⟩
  | 2, _ => exact ⟨x, by rw [World.cell?_alloc_at _ _ _ _ rfl]; rfl, hx.below hb, tx⟩

/-- bytes of words, at a place -/
theorem el_flat (f : Nat → List Nat) (k : Nat) (hk : 0 < k) (hf : ∀ x, (f x).length = k) : ∀ (l : List Nat) (i : Nat), i < l.length * k → el (l.map f).flatten i = el (f (el l (i / k))) (i % k)
  | [], i, h => by simp at h
  | x :: l, i, h => by
    rw [List.map_cons, List.flatten_cons]
    by_cases hi : i < k
    · rw [el_app_left (by rw [hf]; exact hi), Nat.div_eq_of_lt hi, Nat.mod_eq_of_lt hi]; rfl
    · have e : el (x :: l) (i / k) = el l ((i - k) / k) := by
        rw [Nat.div_eq_sub_div hk (by omega)]; rfl
      rw [el_app_right (by rw [hf]; omega), hf, el_flat f k hk hf l (i - k) (by rw [List.length_cons, Nat.add_mul, Nat.one_mul] at h; omega), e, Nat.mod_eq_sub_mod (by omega : i ≥ k)]
theorem el_be (x k j : Nat) (hj : j < k) : el (leL x k).reverse j = x / 256 ^ (k - 1 - j) % 256 := by
  have hl : (leL x k).length = k := leL_length x k
  rw [el_at (by rw [List.length_reverse, hl]; exact hj), List.getElem_reverse]
  simp only [leL, List.getElem_map, List.getElem_range, List.length_map, List.length_range]
theorem bytesW_length (b : Bool) (h : List Nat) : (bytesW b h).length = h.length * ez b := by
  unfold bytesW
  induction h with
  | nil => simp
  | cons x l ih => rw [List.map_cons, List.flatten_cons, List.length_append, ih, List.length_reverse, leL_length, List.length_cons, Nat.add_mul]; omega
theorem bytesW_el (b : Bool) (h : List Nat) (i : Nat) (hi : i < h.length * ez b) : el (bytesW b h) i = el h (i / ez b) / 256 ^ (ez b - 1 - i % ez b) % 256 := by
  have hp : 0 < ez b := by cases b <;> decide
  unfold bytesW
  rw [el_flat (fun x => (leL x (ez b)).reverse) (ez b) hp (fun x => by rw [List.length_reverse, leL_length]) h i hi, el_be _ _ _ (Nat.mod_lt _ hp)]
theorem bytesW_under (b : Bool) (h : List Nat) : Under 256 (bytesW b h) := by
  intro x hx
  unfold bytesW at hx
  obtain ⟨l, hl, hxl⟩ := List.mem_flatten.1 hx
  obtain ⟨y, _, rfl⟩ := List.mem_map.1 hl
  have := List.mem_reverse.1 hxl
  unfold leL at this
  obtain ⟨i, _, rfl⟩ := List.mem_map.1 this
  omega
theorem el_take {l : List Nat} {n i : Nat} (h : i < n) : el (l.take n) i = el l i := by unfold el; rw [List.getElem?_take_of_lt h]
end Go.Proofs.Yteiknfcegchbcaa

/- Parts of a text, nil or not. -/
namespace Go.Proofs.Yteiknfcegchbcaa
open Go.RowKit
set_option linter.unusedVariables false
set_option linter.unusedSimpArgs false

theorem slice_to (ba : Option Addr) (n bc F : Nat) (hF : F ≤ bc) (w : World) : (Instr.slice 22 (.slice ba n bc) none (some (.int .i64 (F : Int))) none).run Try.prog w = .ok (.slice ba F bc) w := by
  obtain ⟨i0, hi0, _, hz1, _⟩ := info_parts Try.info5
  have h : (F : Int) ≤ (bc : Int) := by omega
  cases ba <;> simp [Instr.slice, Instr.sliceBounds, Instr.sliceBound, asIntOf, Sem.run_bind, run_underlying Try.underlying22, h, hF, sizeOf, typeInfo, hi0, hz1, Addr.add]
theorem slice_from (ba : Option Addr) (n bc F : Nat) (hF : F ≤ n) (hn : n ≤ bc) : ∃ A, (∀ w : World, (Instr.slice 22 (.slice ba n bc) (some (.int .i64 (F : Int))) none none).run Try.prog w = .ok (.slice A (n - F) (bc - F)) w) ∧ (A = ba ∧ bc = F ∨ A = ba.map (·.add F)) := by
  obtain ⟨i0, hi0, _, hz1, _⟩ := info_parts Try.info5
  have h : (F : Int) ≤ (n : Int) := by omega
  refine ⟨if bc = F then ba else ba.map (·.add F), fun w => ?_, ?_⟩
  · simp [Instr.slice, Instr.sliceBounds, Instr.sliceBound, asIntOf, Sem.run_bind, run_underlying Try.underlying22, h, hF, sizeOf, typeInfo, hi0, hz1]
  · by_cases e : bc = F
    · exact .inl ⟨if_pos e, e⟩
    · exact .inr (if_neg e)
/-- what is behind the first bytes of a text -/
theorem Row.behind {w : World} {ba : Option Addr} {n bc F : Nat} {b : List Nat} (h : Row .u8 256 w (.slice ba n bc) b) (hF : F ≤ n) {A : Option Addr} (hA : A = ba ∧ bc = F ∨ A = ba.map (·.add F)) : Row .u8 256 w (.slice A (n - F) (bc - F)) (b.drop F) := by
  obtain ⟨a', c', he, h1, h2, h3, h4⟩ := h
  simp only [Value.slice.injEq] at he
  obtain ⟨rfl, rfl, rfl⟩ := he
  refine ⟨A, _, by rw [List.length_drop], by rw [List.length_drop]; omega, by omega, fun hp => ?_, fun x hx => h4 x (List.mem_of_mem_drop hx)⟩
  rw [List.length_drop] at hp
  obtain ⟨b', o', rfl, hc⟩ := h3 (by omega)
  rcases hA with ⟨_, e⟩ | rfl
  · omega
  · refine ⟨b', o' + F, by simp [Addr.add_lit], fun x hx => ?_⟩
    rw [List.length_drop] at hx
    rw [el_drop, Nat.add_assoc]
    exact hc (F + x) (by omega)
theorem own_any (A : Option Addr) (n c n' c' : Nat) : (Value.slice A n c).ownBlock = (Value.slice A n' c').ownBlock := by cases A <;> rfl
theorem add_block (x : Addr) (F : Nat) : (x.add F).block = x.block := by unfold Addr.add; split <;> rfl
theorem Away.behind {g : Nat} {ba : Option Addr} {n bc F n' c' : Nat} {b : List Nat} (h : Away g (.slice ba n bc) b) {A : Option Addr} (hA : A = ba ∧ bc = F ∨ A = ba.map (·.add F)) : Away g (.slice A n' c') (b.drop F) := fun hp q hq => by
  refine h (by rw [List.length_drop] at hp; omega) q ?_
  rcases hA with ⟨rfl, _⟩ | rfl
  · rw [own_any _ _ _ n' c']; exact hq
  · cases ba with
    | none => cases hq
    | some x =>
      have e : (x.add F).block = q := Option.some.inj hq
      rw [add_block] at e
      exact congrArg some e
theorem Tidy.behind {ba : Option Addr} {n bc F : Nat} (h : Tidy (.slice ba n bc)) (hF : F ≤ n) {A : Option Addr} (hA : A = ba ∧ bc = F ∨ A = ba.map (·.add F)) : Tidy (.slice A (n - F) (bc - F)) := fun m c he => by
  simp only [Value.slice.injEq] at he
  obtain ⟨hA0, rfl, rfl⟩ := he
  have hb : ba = none := by
    rcases hA with ⟨rfl, _⟩ | rfl
    · exact hA0
    · simpa using hA0
  subst hb
  obtain ⟨rfl, rfl⟩ := h _ _ rfl
  omega
theorem Tidy.to {ba : Option Addr} {n bc F : Nat} (h : Tidy (.slice ba n bc)) (hF : F ≤ n) : Tidy (.slice ba F bc) := fun m c he => by
  simp only [Value.slice.injEq] at he
  obtain ⟨rfl, rfl, rfl⟩ := he
  obtain ⟨rfl, rfl⟩ := h _ _ rfl
  omega
theorem Away.to {g : Nat} {ba : Option Addr} {n bc F c' : Nat} {b : List Nat} (h : Away g (.slice ba n bc) b) : Away g (.slice ba F c') (b.take F) := fun hp q hq => h (by rw [List.length_take] at hp; omega) q (by rw [own_any _ _ _ F c']; exact hq)
theorem step_store_row {P : Program} {w : World} {ops : Array Oper} {o : Oper} {a : Act} {K : Act → World → Prop} {Q : Exit → Act → World → Prop} {E : Prop} (hgd : o.guard = none) (ty : TypeId) (x y : Operand) (ho : o.op = .store ty x y)
    (g : Nat) (cells : Array Value) (hx : a.eval x = .pointer (some ⟨g, 0, none⟩)) (hy : a.eval y = .agg cells)
    (t : TypeId) (old : Array Value) (hg : w.heap[g]? = some (.cells old t (0, 0))) (hi : (P.info? ty).map (·.size) = some cells.size)
    (hold : old.size = cells.size) (h1 : cells.all (·.oneCell') = true)
    (h : K (a.put o.dst undef) (w.setRow g cells)) : if Region.wanted o (yielded ops a.tmps) = true then Oper.wp P o a w K Q else E := by
  have hw : Region.wanted o (yielded ops a.tmps) = true := by simp [Region.wanted, hgd]
  rw [if_pos hw]
  exact wp_store_row ty x y ho g cells hx hy t old hg hi hold h1 h
/-- what a sum is, behind more bytes, in two steps -/
theorem add_parts (c : Bool) (ws tl b : List Nat) (F : Nat) (hF : F = b.length ∨ F = bz c - tl.length ∧ tl.length < bz c ∧ F ≤ b.length) :
    eat c (eat c ws (tl ++ b.take F)) (b.drop F) = eat c ws (tl ++ b) ∧ left c (tl ++ b.take F) ++ left c (b.drop F) = left c (tl ++ b) := by
  rcases hF with rfl | ⟨rfl, h1, h2⟩
  · rw [List.take_of_length_le (Nat.le_refl _), List.drop_of_length_le (Nat.le_refl _), eat_short (by simpa using bz_pos c), left_short (l := []) (by simpa using bz_pos c), List.append_nil]
    exact ⟨rfl, rfl⟩
  · have hl : (tl ++ b.take (bz c - tl.length)).length = bz c := by rw [List.length_append, List.length_take]; omega
    have hz : left c (tl ++ b.take (bz c - tl.length)) = [] := by
      apply List.eq_nil_of_length_eq_zero
      rw [left_length, hl, Nat.mod_self]
    have e : (tl ++ b.take (bz c - tl.length)) ++ b.drop (bz c - tl.length) = tl ++ b := by rw [List.append_assoc, List.take_append_drop]
    have p1 := eat_parts c ws (tl ++ b.take (bz c - tl.length)) (b.drop (bz c - tl.length))
    have p2 := left_parts c (tl ++ b.take (bz c - tl.length)) (b.drop (bz c - tl.length))
    rw [hz, List.nil_append, e] at p1 p2
    rw [hz, List.nil_append]
    exact ⟨p1.symm, p2.symm⟩
end Go.Proofs.Yteiknfcegchbcaa
