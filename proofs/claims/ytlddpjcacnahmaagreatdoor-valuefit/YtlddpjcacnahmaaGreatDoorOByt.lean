/- Contracts of oid.Bytes, apostilleref02.Bytes. -/
import Derived.Test.YtlddpjcacnahmaaGreatDoorOFit
import Derived.Deep.RegionHeld3
import Derived.Test.YtlddpjcacnahmaaGreatDoorDTag
namespace Go.Proofs.YtlddpjcacnahmaaGreatDoor
open Go.RowKit
set_option linter.unusedVariables false

theorem bytes_none {l : List Nat} (h : fitB l = false) : bytesS l = [] := by unfold bytesS; rw [h]; rfl
theorem bytes_some {l : List Nat} (h : fitB l = true) : bytesS l = flat (merge l) := by unfold bytesS; rw [h]; rfl

theorem flat_snoc (ns : List Nat) (n : Nat) : flat (ns ++ [n]) = flat ns ++ grp n := by rw [flat_append]; simp [flat]
/-- the first numbers' bytes -/
def flatTo (l : List Nat) (k : Nat) : List Nat := flat ((el l 0 * 40 + el l 1) :: (l.drop 2).take k)
theorem flatTo_succ {l : List Nat} {k : Nat} (h : k < (l.drop 2).length) : flatTo l (k + 1) = flatTo l k ++ grp (el (l.drop 2) k) := by
  unfold flatTo
  rw [take_el h, ← List.cons_append, flat_snoc]
theorem flatTo_full {l : List Nat} {k : Nat} (hf : fitB l = true) (h : (l.drop 2).length ≤ k) : flatTo l k = bytesS l := by
  unfold flatTo
  rw [List.take_of_length_le h, bytes_some hf]
  rfl
theorem flatTo_len {l : List Nat} (hu : Under 4294967296 l) (hf : fitB l = true) (k : Nat) : (flatTo l k).length ≤ 100 := by
  have hm := merge_under hu hf
  have h1 : Under 4294967296 ((el l 0 * 40 + el l 1) :: (l.drop 2).take k) := by
    intro x hx
    apply hm
    rcases List.mem_cons.1 hx with rfl | hx
    · exact List.mem_cons_self
    · exact List.mem_cons_of_mem _ (List.mem_of_mem_take hx)
  have h2 := flat_len _ h1
  obtain ⟨a, b, r, rfl, hr, _⟩ := fit_two hf
  unfold flatTo
  simp at h2 ⊢
  omega
theorem flatTo_under (l : List Nat) (k : Nat) : Under 256 (flatTo l k) := flat_under _

/-- what a region's walk holds on to -/
structure HeldR (w0 : World) (v : Value) (l : List Nat) (w : World) : Prop where
  row : Row .u32 4294967296 w v l
  bel : Below w0.heap.size w0 w
theorem HeldR.keep {w0 : World} {v : Value} {l : List Nat} {w w' : World} (h : HeldR w0 v l w) (hb : Below w.heap.size w w') : HeldR w0 v l w' := ⟨h.1.below hb, keep_trans h.2 hb⟩
theorem HeldR.drew {w0 : World} {v : Value} {l : List Nat} {w : World} (h : HeldR w0 v l w) : HeldR w0 v l w.drew := h.keep (Below.refl _ _).drew

set_option maxHeartbeats 1000000 in
theorem bytes_any (v : Value) (l : List Nat) (w : World) (h : Row .u32 4294967296 w v l) :
    Calls Tryz.prog 50 #[v] w fun e w' => ∃ v', e = .returned v' ∧ Own 5 .u8 256 w' w.heap.size v' (bytesS l) ∧ Below w.heap.size w w' := by
  have h' := h
  obtain ⟨a, cap, rfl, h1, h2, h3, h4⟩ := h
  unfold maxLen at h2
  cases hf : fitB l with
  | false =>
    rw [bytes_none hf]
    have hc := fit_any _ l w h'
    rw [hf] at hc
    clear h3
    go_enter Tryz.func50, Tryz.ntmps50
    go_wp2_with (first | (go_at_call 49; refine hc.mono ?_; rintro e w1 ⟨rfl, rfl⟩) | fail)
    go_ret
    exact ⟨_, rfl, own_nil _ _ _ _ _, Below.refl _ _⟩
  | true =>
    have hc := fit_any _ l w h'
    rw [hf] at hc
    obtain ⟨x, y, r, hl, hr, hxy⟩ := fit_two hf
    have hlen : l.length = r.length + 2 := by rw [hl]; simp
    have e0 : el l 0 = x := by rw [hl]; rfl
    have e1 : el l 1 = y := by rw [hl]; rfl
    obtain ⟨b, off, rfl, hcell⟩ := h3 (by omega)
    have c0 : w.cell? ⟨b, off, none⟩ = some (.int .u32 (el l 0)) := hcell 0 (by omega)
    have c1 : w.cell? ⟨b, off + 1, none⟩ = some (.int .u32 (el l 1)) := hcell 1 (by omega)
    have hlt0 : el l 0 * 40 + el l 1 < 4294967296 := by omega
    have hlt1 : el l 0 ≤ 2 := by omega
    have hlt2 : el l 1 < 4294967296 := by omega
    have hl2 : 2 ≤ l.length := by omega
    have hl20 : l.length ≤ 20 := by omega
    clear h3 hl hxy hlen e0 e1 hr
    clear x y r
    go_enter Tryz.func50, Tryz.ntmps50
    go_wp2_with (first | (go_at_call 49; refine hc.mono ?_; rintro e w1 ⟨rfl, rfl⟩) | fail)
    have hd : HeldR w1 (.slice (some ⟨b, off, none⟩) l.length cap) l w1 := ⟨h', Below.refl _ _⟩
    have HV : Hid (IntKind.u32.wrap (IntKind.u32.wrap ((el l 0 : Int) * 40) + (el l 1 : Int)) = ((el l 0 * 40 + el l 1 : Nat) : Int)) := hide (by rw [IntKind.wrap_u32', IntKind.wrap_u32']; omega)
    have il0 : (0 : Int) < (l.length : Int) := by omega
    have il1 : (1 : Int) < (l.length : Int) := by omega
    have nl0 : 0 < l.length := by omega
    have nl1 : 1 < l.length := by omega
    clear hc hcell
    go_region_held3 (fun w' => w'.cell? ⟨b, off, none⟩ = some (.int .u32 (el l 0)) ∧ w'.cell? ⟨b, off + 1, none⟩ = some (.int .u32 (el l 1)) ∧ HeldR w1 (.slice (some ⟨b, off, none⟩) l.length cap) l w')
      (first
        | (refine ⟨by go_keep, by go_keep, HeldR.drew (by assumption)⟩)
        | (refine ⟨by go_keep, by go_keep, by assumption⟩)
        | (refine ⟨by rw [hb2.cell (p := ⟨b, off, none⟩) (World.block_lt_of_cell? _ _ c0)]; exact c0, by rw [hb2.cell (p := ⟨b, off + 1, none⟩) (World.block_lt_of_cell? _ _ c1)]; exact c1, HeldR.keep hd.drew hb2⟩))
      (first
        | (go_at_call 87; rw [HV.out]; refine (appn_any _ [] _ w1.heap.size _ (by simp) (own_nil _ _ _ _ _) hlt0 (by simp)).mono ?_; rintro e w2 ⟨v2, rfl, ho2, hb2⟩) | fail)
    rw [List.nil_append] at ho2
    obtain ⟨ho2, _⟩ := ho2
    generalize IntKind.u32.wrap ((el l 0 : Int) * 40) = wr0 at *
    have hlD : (l.drop 2).length = l.length - 2 := by simp
    have hfu := flatTo_len h4 hf
    have HS0 : Hid (flatTo l 0 = grp (el l 0 * 40 + el l 1)) := hide (by unfold flatTo; simp [flat])
    rw [← HS0.out] at ho2
    have hkeep : Below w1.heap.size w1 w2 := hd.bel.trans ((Below.refl _ _).drew.trans hb2)
    have HD := hide hlD
    clear hlD hb2 c0 c1 hd
    have hll : l.length - 2 ≤ 20 := by omega
    go_wp2
    all_goals
      go_loopw [3, 21] (fun v i wr => ∃ k : Nat, k ≤ l.length - 2 ∧ i = .int .i64 k ∧ wr.ownsRow w1.heap.size 5 1 v (flatTo l k).length (vals .u8 (flatTo l k)) ∧ Below w1.heap.size w1 wr) (fun _ i _ => (l.length - 2) - (intOf i).toNat)
      case atStart => exact ⟨0, Nat.zero_le _, rfl, ho2, hkeep⟩
      case round =>
        obtain ⟨k, hk, rfl, how, hbr⟩ := hrel
        by_cases hlt : k < l.length - 2
        · first
            | (exfalso; omega)
            | (have hrow := h'.below hbr
               obtain ⟨_, _, hee, _, _, hcc, _⟩ := hrow
               simp only [Value.slice.injEq, true_and] at hee
               obtain ⟨rfl, rfl⟩ := hee
               obtain ⟨_, _, hab, hcell⟩ := hcc (by omega)
               simp only [Option.some.injEq, Addr.mk.injEq, and_true] at hab
               obtain ⟨rfl, rfl⟩ := hab
               have ck : wr.cell? ⟨b, off + 2 + k, none⟩ = some (.int .u32 (el l (2 + k))) := by rw [Nat.add_assoc]; exact hcell (2 + k) (by omega)
               clear hcell hcc
               have hcall := appn_any _ (flatTo l k) (el l (2 + k)) w1.heap.size wr hbr.size ⟨how, flatTo_under l k⟩ (el_lt h4 (by decide) _) (by have := hfu k; omega)
               have HF : Hid (flatTo l k ++ grp (el l (2 + k)) = flatTo l (k + 1)) := hide (by rw [flatTo_succ (by rw [HD.out]; exact hlt), el_drop])
               rw [HF.out] at hcall
               go_wp2_with (first | (go_at_call 87; refine hcall.mono ?_; rintro e w5 ⟨v5, rfl, ⟨ho5, _⟩, hb5⟩) | fail)
               go_roundw
               case rel => exact ⟨k + 1, by omega, by go_num, ho5, hbr.trans hb5⟩
               case measure => simp [intOf]; omega)
        · go_wp2
          go_ret
          refine ⟨_, rfl, ⟨?_, ?_⟩, hbr⟩
          · rw [← flatTo_full hf (k := k) (by rw [HD.out]; omega)]; exact how
          · rw [← flatTo_full hf (k := k) (by rw [HD.out]; omega)]; exact flatTo_under _ _

set_option maxHeartbeats 1000000 in
theorem rbytes_any (v : Value) (l : List Nat) (w : World) (h : Row .u32 4294967296 w v l) :
    Calls Tryz.prog 51 #[v] w fun e w' => ∃ v', e = .returned v' ∧ Own 5 .u8 256 w' w.heap.size v' (bytesS l) ∧ Below w.heap.size w w' := by
  have h' := h
  obtain ⟨a, cap, rfl, h1, h2, h3, h4⟩ := h
  unfold maxLen at h2
  obtain ⟨i0, hi, hz0, hz1, hz2⟩ := info_parts Tryz.info5
  cases hf : fitB l with
  | false =>
    rw [bytes_none hf]
    have hc := rfit_any _ l w h'
    rw [hf] at hc
    clear h3
    go_enter Tryz.func51, Tryz.ntmps51
    go_wp2_with (first | (go_at_call 88; refine hc.mono ?_; rintro e w1 ⟨rfl, rfl⟩) | fail)
    go_ret
    exact ⟨_, rfl, own_nil _ _ _ _ _, Below.refl _ _⟩
  | true =>
    have hc := rfit_any _ l w h'
    rw [hf] at hc
    obtain ⟨x, y, r, hl, hr, hxy⟩ := fit_two hf
    have hlen : l.length = r.length + 2 := by rw [hl]; simp
    have e0 : el l 0 = x := by rw [hl]; rfl
    have e1 : el l 1 = y := by rw [hl]; rfl
    obtain ⟨b, off, rfl, hcell⟩ := h3 (by omega)
    have c0 : w.cell? ⟨b, off, none⟩ = some (.int .u32 (el l 0)) := hcell 0 (by omega)
    have c1 : w.cell? ⟨b, off + 1, none⟩ = some (.int .u32 (el l 1)) := hcell 1 (by omega)
    have hlt0 : el l 0 * 40 + el l 1 < 4294967296 := by omega
    have hlt1 : el l 0 ≤ 2 := by omega
    have hlt2 : el l 1 < 4294967296 := by omega
    have hl2 : 2 ≤ l.length := by omega
    have hl20 : l.length ≤ 20 := by omega
    clear h3 hl hxy hlen e0 e1 hr
    clear x y r
    go_enter Tryz.func51, Tryz.ntmps51
    go_wp2_with (first | (go_at_call 88; refine hc.mono ?_; rintro e w1 ⟨rfl, rfl⟩) | fail)
    have hd : HeldR w1 (.slice (some ⟨b, off, none⟩) l.length cap) l w1 := ⟨h', Below.refl _ _⟩
    have HV : Hid (IntKind.u32.wrap (IntKind.u32.wrap (40 * (el l 0 : Int)) + (el l 1 : Int)) = ((el l 0 * 40 + el l 1 : Nat) : Int)) := hide (by rw [IntKind.wrap_u32', IntKind.wrap_u32']; omega)
    have il0 : (0 : Int) < (l.length : Int) := by omega
    have il1 : (1 : Int) < (l.length : Int) := by omega
    have nl0 : 0 < l.length := by omega
    have nl1 : 1 < l.length := by omega
    clear hc hcell
    go_region_held3 (fun w' => w'.cell? ⟨b, off, none⟩ = some (.int .u32 (el l 0)) ∧ w'.cell? ⟨b, off + 1, none⟩ = some (.int .u32 (el l 1)) ∧ HeldR w1 (.slice (some ⟨b, off, none⟩) l.length cap) l w')
      (first
        | (refine ⟨by go_keep, by go_keep, HeldR.drew (by assumption)⟩)
        | (refine ⟨by go_keep, by go_keep, by assumption⟩)
        | (refine ⟨by rw [hb2.cell (p := ⟨b, off, none⟩) (World.block_lt_of_cell? _ _ c0)]; exact c0, by rw [hb2.cell (p := ⟨b, off + 1, none⟩) (World.block_lt_of_cell? _ _ c1)]; exact c1, HeldR.keep hd.drew hb2⟩))
      (first
        | (go_at_call 89; rw [HV.out]; refine (rgrp_any _ _ hlt0).mono ?_; rintro e w2 ⟨v2, rfl, ho2, hb2⟩) | fail)
    obtain ⟨ho2, _⟩ := ho2
    generalize IntKind.u32.wrap (40 * (el l 0 : Int)) = wr0 at *
    have hlD : (l.drop 2).length = l.length - 2 := by simp
    have hfu := flatTo_len h4 hf
    have HS0 : Hid (flatTo l 0 = grp (el l 0 * 40 + el l 1)) := hide (by unfold flatTo; simp [flat])
    rw [← HS0.out] at ho2
    have hkeep : Below w1.heap.size w1 w2 := hd.bel.trans ((Below.refl _ _).drew.trans hb2)
    have HD := hide hlD
    clear hlD hb2 c0 c1 hd
    go_wp2
    go_loopw [3, 4] (fun v i wr => ∃ k kk : Nat, Hid (k + 2 = kk) ∧ kk ≤ l.length ∧ i = .int .i64 kk ∧ wr.ownsRow w1.heap.size 5 1 v (flatTo l k).length (vals .u8 (flatTo l k)) ∧ Below w1.heap.size w1 wr) (fun _ i _ => l.length - (intOf i).toNat)
    case atStart => exact ⟨0, 2, hide rfl, hl2, rfl, ho2, hkeep⟩
    case round =>
      obtain ⟨k, kk, HK, hk, rfl, how, hbr⟩ := hrel
      have hsz := hbr.size
      by_cases hlt : kk < l.length
      · have hrow := h'.below hbr
        obtain ⟨_, _, hee, _, _, hcc, _⟩ := hrow
        simp only [Value.slice.injEq, true_and] at hee
        obtain ⟨rfl, rfl⟩ := hee
        obtain ⟨_, _, hab, hcell⟩ := hcc (by omega)
        simp only [Option.some.injEq, Addr.mk.injEq, and_true] at hab
        obtain ⟨rfl, rfl⟩ := hab
        have ck : wr.cell? ⟨b, off + kk, none⟩ = some (.int .u32 (el l kk)) := hcell kk hlt
        clear hcell hcc
        have hx := el_lt h4 (by decide) kk
        have hfk := hfu k
        have hgl := grp_len hx
        have HF : Hid (flatTo l k ++ grp (el l kk) = flatTo l (k + 1)) := hide (by rw [flatTo_succ (by rw [HD.out]; have := HK.out; omega), el_drop, Nat.add_comm, HK.out])
        go_wp2_with (first
          | (go_at_call 89; refine (rgrp_any _ _ hx).mono ?_; rintro e w5 ⟨v5, rfl, ho5, hb5⟩; obtain ⟨g5, c5, rfl, _⟩ := row_form ho5.1 (grp_pos _); have hsz5 := hb5.size; have how5 := own_kept how hb5)
          | (at_builtin; refine wpList_append_own _ rfl _ _ 22 rfl w1.heap.size 5 i0 (.int .u8 0) 1 1 Tryz.underlying22 hi hz0 hz1 hz2 rfl (by decide) _ _ _ rfl how5 ⟨g5, 0, none⟩ (grp (el l kk)).length c5 (vals .u8 (grp (el l kk))) rfl (by rw [vals_length, Nat.mul_one]) (ho5.1.cells rfl) (vals_one _ _) (by unfold maxLen; omega) (by omega) (by omega) ?_; intro v6 w6 how6 hgrow6 _)
          | fail)
        have hb6 := below_append' (hbr.trans (hb5.mono hsz)) (by omega) how5 hgrow6
        rw [← vals_append, HF.out, ← List.length_append, HF.out] at how6
        go_roundw
        case rel => exact ⟨k + 1, kk + 1, hide (by have := HK.out; omega), by omega, by go_num, how6, hb6⟩
        case measure => simp [intOf]; omega
      · go_wp2
        go_ret
        refine ⟨_, rfl, ⟨?_, ?_⟩, hbr⟩
        · rw [← flatTo_full hf (k := k) (by rw [HD.out]; have := HK.out; omega)]; exact how
        · rw [← flatTo_full hf (k := k) (by rw [HD.out]; have := HK.out; omega)]; exact flatTo_under _ _
end Go.Proofs.YtlddpjcacnahmaaGreatDoor

/- Contracts of apostilleref02.Same, slices.Equal over identifiers, oid.Same. -/
namespace Go.Proofs.YtlddpjcacnahmaaGreatDoor
open Go.RowKit
set_option linter.unusedVariables false

set_option maxHeartbeats 400000 in
theorem rosame_any (va vb : Value) (l m : List Nat) (w : World) (ha : Row .u32 4294967296 w va l) (hb : Row .u32 4294967296 w vb m) :
    Calls Tryz.prog 33 #[va, vb] w fun e w' => e = .returned (.bool (decide (l = m))) ∧ ∃ n, w' = w.drewN n := by
  obtain ⟨a, ca, rfl, ha1, ha2, ha3, ha4⟩ := ha
  obtain ⟨b, cb, rfl, hb1, hb2, hb3, hb4⟩ := hb
  unfold maxLen at ha2 hb2
  by_cases hlen : l.length = m.length
  · have hne : ((l.length : Int) != (m.length : Int)) = false := by simp [hlen]
    have H : Hid (l.length = m.length) := hlen
    have hle1 : l.length ≤ m.length := by omega
    have hle2 : m.length ≤ l.length := by omega
    clear hlen
    go_enter Tryz.func33, Tryz.ntmps33
    go_wp2
    go_loopw [5] (fun i wr => ∃ k n : Nat, k ≤ l.length ∧ i = .int .i64 k ∧ wr = w.drewN n ∧ ∀ j, j < k → el l j = el m j) (fun i _ => l.length - (intOf i).toNat)
    case atStart => exact ⟨0, 0, Nat.zero_le _, rfl, rfl, fun j hj => by omega⟩
    case round =>
      obtain ⟨k, n, hk, rfl, rfl, hall⟩ := hrel
      have HA : Hid (∀ j, j < k → el l j = el m j) := hall
      clear hall
      by_cases hlt : k < l.length
      · obtain ⟨ba, oa, rfl, hca⟩ := ha3 (by omega)
        obtain ⟨bb, ob, rfl, hcb⟩ := hb3 (by omega)
        have c1 := hca k hlt
        have c2 := hcb k (by omega)
        clear hca hcb
        have hlt2 : k < m.length := by omega
        by_cases he : el l k = el m k
        · have hd : ((el l k : Int) != (el m k : Int)) = false := by simp [he]
          have HE : Hid (el l k = el m k) := he
          clear he
          go_wp2
          go_quiet (fail)
          go_wp2
          go_roundw
          case rel => exact ⟨k + 1, _, by omega, by go_num, rfl, fun j hj => by
            by_cases hjk : j = k
            · subst hjk; exact HE.out
            · exact HA.out j (by omega)⟩
          case measure => simp [intOf]; omega
        · have hd : ((el l k : Int) != (el m k : Int)) = true := by simp; omega
          go_wp2
          go_quiet (fail)
          go_wp2
          go_ret
          exact ⟨ret_bool (by symm; simp; intro h; exact he (by rw [h])), _, World.drewN_drewN _ _ _⟩
      · go_wp2
        go_ret
        exact ⟨ret_bool (by symm; simp; exact el_ext H.out (fun i hi => HA.out i (by omega))), _, rfl⟩
  · have hne : ((l.length : Int) != (m.length : Int)) = true := by simp; omega
    have hd : decide (l = m) = false := by simp; intro h; exact hlen (by rw [h])
    go_enter Tryz.func33, Tryz.ntmps33
    go_wp2
    go_ret
    exact ⟨ret_bool hd.symm, 0, rfl⟩
theorem rosame_b (va vb : Value) (l m : List Nat) (w : World) (ha : Row .u32 4294967296 w va l) (hb : Row .u32 4294967296 w vb m) :
    Calls Tryz.prog 33 #[va, vb] w fun e w' => e = .returned (.bool (decide (l = m))) ∧ Below w.heap.size w w' :=
  (rosame_any va vb l m w ha hb).mono fun _ _ ⟨he, n, hw⟩ => ⟨he, by rw [hw]; exact below_drewN (Below.refl _ _) n⟩
end Go.Proofs.YtlddpjcacnahmaaGreatDoor
