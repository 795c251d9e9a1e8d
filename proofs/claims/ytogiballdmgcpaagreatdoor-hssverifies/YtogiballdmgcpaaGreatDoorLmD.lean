/- Leaves that sign once: the document's Digits. -/
import Derived.Test.YtogiballdmgcpaaGreatDoorLmR2
import Derived.Test.YtogiballdmgcpaaGreatDoorLtV
import Derived.BigQuiet
import Derived.Test.YtogiballdmgcpaaGreatDoorHN1
import Derived.Test.YtogiballdmgcpaaGreatDoorPgF
import Derived.Deep.AppendLies
import Derived.Deep.RegionHeld3
import Derived.Test.YtogiballdmgcpaaGreatDoorLtR3
import Derived.Test.YtogiballdmgcpaaGreatDoorPlan
namespace Go.Proofs.YtogiballdmgcpaaGreatDoor
open Go.RowKit
set_option linter.unusedVariables false
set_option linter.unusedSimpArgs false

theorem digS_natL (l : List Nat) (w c : Nat) (h1 : 1 ≤ w) (h2 : w ≤ 24) (h3 : c * w ≤ 8 * l.length) : digS l (w : Int) (c : Int) = digL l w c := by
  unfold digS
  rw [if_pos (okB_mk h1 h2 h3)]
  rfl
theorem lack_take {m i : Nat} {l : List Nat} (h : i < l.length) : lackL m (l.take (i + 1)) = lackL m (l.take i) + (m - el l i) := by
  rw [List.take_succ_eq_append_getElem h, lack_snoc, el_at h]
/-- where the sum stands -/
def SmL (w3 : World) (m : Nat) (l : List Nat) (vs vi : Value) (wr : World) : Prop := ∃ i : Nat, i ≤ l.length ∧ vi = .int .i64 (i : Int) ∧ vs = .int .u64 ((lackL m (l.take i) : Nat) : Int) ∧ Below w3.heap.size w3 wr
theorem vint64 {a b : Int} (h : a = b) : Value.int .u64 a = .int .u64 b := by rw [h]
set_option maxHeartbeats 4000000 in
set_option maxRecDepth 100000 in
theorem rdigs_1 (d : List Nat) (dv : Value) (w : World) (hd : Row .u8 256 w dv d) (td : Tidy dv) (hl : d.length = 32) :
    Calls Tryz.prog 85 #[.int .i64 1, dv] w fun e w' => ∃ v, e = .returned (.tuple #[v, .int .i64 0]) ∧ Own 52 .u32 4294967296 w' w.heap.size v (digsL 1 256 9 7 d) ∧ Below w.heap.size w w' := by
  obtain ⟨da, dc, rfl, lc1, lc2, _⟩ := hd.opens hl
  have hk := fun y => rkind_ok y Kd.k1
  have hdig := rdig_any _ d 1 256 w hd (by omega)
  rw [show digS d 1 256 = digL d 1 256 from digS_natL d 1 256 (by decide) (by decide) (by omega)] at hdig
  have hch := chk_lt kind_1 d
  have hc16 := chk_16 kind_1 d
  have hll : (digL d 1 256).length = 256 := digL_length _ _ _
  have hlt : ∀ i, el (digL d 1 256) i ≤ 1 := fun i => by
    by_cases h : i < 256
    · unfold digL el
      rw [List.getElem?_map, List.getElem?_range h]
      have := dig_ltM d 1 i
      show dig d 1 i ≤ 1
      omega
    · unfold el
      rw [List.getElem?_eq_none (by rw [hll]; omega)]
      exact Nat.zero_le _
  obtain ⟨L, hL⟩ : ∃ L, L = digL d 1 256 := ⟨_, rfl⟩
  have hC : chkL 1 256 d = lackL 1 L := by unfold chkL; rw [hL]
  have hDs : digsL 1 256 9 7 d = digL (d ++ (leL (lackL 1 L * 128) 2).reverse) 1 265 := by unfold digsL; rw [hC]
  rw [hC] at hch hc16
  rw [hDs]
  rw [← hL] at hdig hll hlt
  obtain ⟨SM, hSM⟩ : ∃ x : Nat, x = lackL 1 L := ⟨_, rfl⟩
  rw [← hSM] at hch hc16 ⊢
  obtain ⟨SH, hSH⟩ : ∃ x : Nat, x = SM * 128 := ⟨_, rfl⟩
  have hc16' : SH < 65536 := by have : SM * 2 ^ 7 < 65536 := hc16; omega
  have e_SH : (SM : Int) * 128 = (SH : Int) := by omega
  have s_SH : IntKind.u64.wrap (SH : Int) = (SH : Int) := by rw [IntKind.wrap_u64]; omega
  have h2 := fun y => rbe2 SH y (by omega)
  rw [← hSH]
  have hjn := fun y lv (r : Rows2 y lv [d, be2 SH]) => rjoin_any lv _ y r (by simp only [List.flatten_cons, List.flatten_nil, List.append_nil, List.length_append, be2_len]; omega)
  have hfl : [d, be2 SH].flatten = d ++ (leL SH 2).reverse := by simp [be2]
  rw [hfl] at hjn
  obtain ⟨J, hJ⟩ : ∃ J, J = d ++ (leL SH 2).reverse := ⟨_, rfl⟩
  have hJl : J.length = 34 := by rw [hJ, List.length_append, List.length_reverse, leL_length, hl]
  rw [← hJ] at hjn ⊢
  have hdg2 := fun y v (r : Row .u8 256 y v J) => rdig_any v J 1 265 y r (by omega)
  rw [show digS J 1 265 = digL J 1 265 from digS_natL J 1 265 (by decide) (by decide) (by omega)] at hdg2
  have hsumb : ∀ i, i ≤ 256 → lackL 1 (L.take i) ≤ 256 * 1 := fun i hi => by
    have := lack_lt 1 (L.take i)
    rw [List.length_take, hll] at this
    exact Nat.le_trans this (Nat.mul_le_mul_right _ (by omega))
  have HX := hide (And.intro hC (And.intro hDs (And.intro hSM (And.intro hSH (And.intro hJ (And.intro hll (And.intro hsumb hL)))))))
  have HD := hide (And.intro hd (And.intro td (And.intro hlt hch)))
  clear hC hDs hSM hSH hJ hfl hc16 hsumb hd td hL hlt hch
  go_enter Tryz.func85, Tryz.ntmps85
  go_wp2_with (first
    | (go_at_call 77; refine (hk _).mono ?_; rintro e yy ⟨rfl, hy⟩; obtain rfl := hy.symm)
    | (go_at_call 113; refine hdig.mono ?_; rintro e w3 ⟨v3, rfl, o3, hb3⟩; obtain ⟨a3, c3, rfl, _, _, ho3⟩ := o3.row.opens hll)
    | fail)
  have r3 := o3.row
  go_loopw [10, 11] (fun vs vi wr => SmL w3 1 L vs vi wr) (fun _ vi _ => 256 - (intOf vi).toNat)
  case atStart => exact ⟨0, Nat.zero_le _, rfl, rfl, Below.refl _ _⟩
  case round =>
    obtain ⟨i, hi, rfl, rfl, hbr⟩ := hrel
    rename World => wr
    obtain ⟨hC, hDs, hSM, hSH, hJ, hll, hsumb, hL⟩ := HX.out
    obtain ⟨hd, td, hlt, hch⟩ := HD.out
    by_cases hin : i < 256
    · have hii : (i : Int) < 256 := by omega
      have z_i : (0 : Int) ≤ (i : Int) := Int.natCast_nonneg _
      obtain ⟨b3, f3, rfl, hc3⟩ := ho3 (by decide)
      have ci : wr.cell? ⟨b3, f3 + i, none⟩ = some (.int .u32 (el L i)) := keep_cell (hc3 i hin) hbr
      have hei := hlt i
      obtain ⟨X, hX⟩ : ∃ X : Nat, X = lackL 1 (L.take i) := ⟨_, rfl⟩
      have hXb : X ≤ 256 * 1 := by rw [hX]; exact hsumb i (by omega)
      rw [← hX]
      obtain ⟨D, hD⟩ : ∃ D : Nat, D = el L i := ⟨_, rfl⟩
      rw [← hD] at ci hei
      obtain ⟨Y, hY⟩ : ∃ Y : Nat, Y = X + 1 := ⟨_, rfl⟩
      obtain ⟨Z, hZ⟩ : ∃ Z : Nat, Z = Y - D := ⟨_, rfl⟩
      have e_Y : (X : Int) + 1 = (Y : Int) := by omega
      have s_Y : IntKind.u64.wrap (Y : Int) = (Y : Int) := by rw [IntKind.wrap_u64]; omega
      have e_Z : (Y : Int) - (D : Int) = (Z : Int) := by omega
      have s_Z : IntKind.u64.wrap (Z : Int) = (Z : Int) := by rw [IntKind.wrap_u64]; omega
      have u_D : IntKind.u64.wrap (D : Int) = (D : Int) := by rw [IntKind.wrap_u64]; omega
      obtain ⟨I, hI⟩ : ∃ I : Nat, I = i + 1 := ⟨_, rfl⟩
      have e_I : (i : Int) + 1 = (I : Int) := by omega
      have s_I : IntKind.i64.wrap (I : Int) = (I : Int) := by rw [IntKind.wrap_i64]; omega
      have HK := hide (And.intro hX (And.intro hD (And.intro hY (And.intro hZ (And.intro hI (And.intro hbr (And.intro hin hei)))))))
      clear hX hD hY hZ hI hbr hin hei hlt hch hC hDs hSM hSH hJ hsumb hL hXb hc3 ho3 o3 r3 hdig
      go_wp2
      go_quiet (fail)
      go_wp2
      obtain ⟨hX, hD, hY, hZ, hI, hbr, hin, hei⟩ := HK.out
      refine ⟨⟨i + 1, by omega, vint (by omega), ?_, Go.below_drewN hbr nq⟩, by simp [intOf]; omega⟩
      rw [lack_take (by omega), ← hX, ← hD]
      exact vint64 (by omega)
    · obtain rfl : i = 256 := by omega
      have ht : L.take 256 = L := List.take_of_length_le (by omega)
      rw [ht, ← hSM]
      have hbq := keep_trans hb3 hbr
      have hdr := hd.below hbq
      have HK := hide (And.intro hbq hbr)
      clear hC hDs hSM hSH hJ hsumb hL hlt hch hbr ht ho3 o3 r3 hdig hi
      go_wp2_with (first
        | (go_at_call 24; refine (h2 _).mono ?_; rintro e w4 ⟨v4, rfl, o4, hb4⟩; obtain ⟨a4, c4, rfl⟩ := o4.row.form; have hT := hjn _ _ (rows_litL (B := w4.heap.size) (k := 2) (texts_cons (hdr.below hb4) td (texts_cons o4.row o4.tidy (Texts.nil _))) rfl rfl (by decide)))
        | (go_at_call 31; refine hT.mono ?_; rintro e w5 ⟨v5, rfl, o5, hb5⟩; obtain ⟨a5, c5, rfl, _⟩ := o5.row.opens hJl)
        | (go_at_call 113; refine (hdg2 _ _ o5.row).mono ?_; rintro e w6 ⟨v6, rfl, o6, hb6⟩)
        | fail)
      go_ret2
      have hb46 := keep_trans (keep_trans hb4 (keep_alloc _ _)) hb5
      have hbw := keep_trans HK.out.1 hb46
      exact ⟨_, rfl, o6.mono hbw.size, keep_trans hbw hb6⟩
set_option maxHeartbeats 4000000 in
set_option maxRecDepth 100000 in
theorem rdigs_2 (d : List Nat) (dv : Value) (w : World) (hd : Row .u8 256 w dv d) (td : Tidy dv) (hl : d.length = 32) :
    Calls Tryz.prog 85 #[.int .i64 2, dv] w fun e w' => ∃ v, e = .returned (.tuple #[v, .int .i64 0]) ∧ Own 52 .u32 4294967296 w' w.heap.size v (digsL 2 128 5 6 d) ∧ Below w.heap.size w w' := by
  obtain ⟨da, dc, rfl, lc1, lc2, _⟩ := hd.opens hl
  have hk := fun y => rkind_ok y Kd.k2
  have hdig := rdig_any _ d 2 128 w hd (by omega)
  rw [show digS d 2 128 = digL d 2 128 from digS_natL d 2 128 (by decide) (by decide) (by omega)] at hdig
  have hch := chk_lt kind_2 d
  have hc16 := chk_16 kind_2 d
  have hll : (digL d 2 128).length = 128 := digL_length _ _ _
  have hlt : ∀ i, el (digL d 2 128) i ≤ 3 := fun i => by
    by_cases h : i < 128
    · unfold digL el
      rw [List.getElem?_map, List.getElem?_range h]
      have := dig_ltM d 2 i
      show dig d 2 i ≤ 3
      omega
    · unfold el
      rw [List.getElem?_eq_none (by rw [hll]; omega)]
      exact Nat.zero_le _
  obtain ⟨L, hL⟩ : ∃ L, L = digL d 2 128 := ⟨_, rfl⟩
  have hC : chkL 2 128 d = lackL 3 L := by unfold chkL; rw [hL]
  have hDs : digsL 2 128 5 6 d = digL (d ++ (leL (lackL 3 L * 64) 2).reverse) 2 133 := by unfold digsL; rw [hC]
  rw [hC] at hch hc16
  rw [hDs]
  rw [← hL] at hdig hll hlt
  obtain ⟨SM, hSM⟩ : ∃ x : Nat, x = lackL 3 L := ⟨_, rfl⟩
  rw [← hSM] at hch hc16 ⊢
  obtain ⟨SH, hSH⟩ : ∃ x : Nat, x = SM * 64 := ⟨_, rfl⟩
  have hc16' : SH < 65536 := by have : SM * 2 ^ 6 < 65536 := hc16; omega
  have e_SH : (SM : Int) * 64 = (SH : Int) := by omega
  have s_SH : IntKind.u64.wrap (SH : Int) = (SH : Int) := by rw [IntKind.wrap_u64]; omega
  have h2 := fun y => rbe2 SH y (by omega)
  rw [← hSH]
  have hjn := fun y lv (r : Rows2 y lv [d, be2 SH]) => rjoin_any lv _ y r (by simp only [List.flatten_cons, List.flatten_nil, List.append_nil, List.length_append, be2_len]; omega)
  have hfl : [d, be2 SH].flatten = d ++ (leL SH 2).reverse := by simp [be2]
  rw [hfl] at hjn
  obtain ⟨J, hJ⟩ : ∃ J, J = d ++ (leL SH 2).reverse := ⟨_, rfl⟩
  have hJl : J.length = 34 := by rw [hJ, List.length_append, List.length_reverse, leL_length, hl]
  rw [← hJ] at hjn ⊢
  have hdg2 := fun y v (r : Row .u8 256 y v J) => rdig_any v J 2 133 y r (by omega)
  rw [show digS J 2 133 = digL J 2 133 from digS_natL J 2 133 (by decide) (by decide) (by omega)] at hdg2
  have hsumb : ∀ i, i ≤ 128 → lackL 3 (L.take i) ≤ 128 * 3 := fun i hi => by
    have := lack_lt 3 (L.take i)
    rw [List.length_take, hll] at this
    exact Nat.le_trans this (Nat.mul_le_mul_right _ (by omega))
  have HX := hide (And.intro hC (And.intro hDs (And.intro hSM (And.intro hSH (And.intro hJ (And.intro hll (And.intro hsumb hL)))))))
  have HD := hide (And.intro hd (And.intro td (And.intro hlt hch)))
  clear hC hDs hSM hSH hJ hfl hc16 hsumb hd td hL hlt hch
  go_enter Tryz.func85, Tryz.ntmps85
  go_wp2_with (first
    | (go_at_call 77; refine (hk _).mono ?_; rintro e yy ⟨rfl, hy⟩; obtain rfl := hy.symm)
    | (go_at_call 113; refine hdig.mono ?_; rintro e w3 ⟨v3, rfl, o3, hb3⟩; obtain ⟨a3, c3, rfl, _, _, ho3⟩ := o3.row.opens hll)
    | fail)
  have r3 := o3.row
  go_loopw [10, 11] (fun vs vi wr => SmL w3 3 L vs vi wr) (fun _ vi _ => 128 - (intOf vi).toNat)
  case atStart => exact ⟨0, Nat.zero_le _, rfl, rfl, Below.refl _ _⟩
  case round =>
    obtain ⟨i, hi, rfl, rfl, hbr⟩ := hrel
    rename World => wr
    obtain ⟨hC, hDs, hSM, hSH, hJ, hll, hsumb, hL⟩ := HX.out
    obtain ⟨hd, td, hlt, hch⟩ := HD.out
    by_cases hin : i < 128
    · have hii : (i : Int) < 128 := by omega
      have z_i : (0 : Int) ≤ (i : Int) := Int.natCast_nonneg _
      obtain ⟨b3, f3, rfl, hc3⟩ := ho3 (by decide)
      have ci : wr.cell? ⟨b3, f3 + i, none⟩ = some (.int .u32 (el L i)) := keep_cell (hc3 i hin) hbr
      have hei := hlt i
      obtain ⟨X, hX⟩ : ∃ X : Nat, X = lackL 3 (L.take i) := ⟨_, rfl⟩
      have hXb : X ≤ 128 * 3 := by rw [hX]; exact hsumb i (by omega)
      rw [← hX]
      obtain ⟨D, hD⟩ : ∃ D : Nat, D = el L i := ⟨_, rfl⟩
      rw [← hD] at ci hei
      obtain ⟨Y, hY⟩ : ∃ Y : Nat, Y = X + 3 := ⟨_, rfl⟩
      obtain ⟨Z, hZ⟩ : ∃ Z : Nat, Z = Y - D := ⟨_, rfl⟩
      have e_Y : (X : Int) + 3 = (Y : Int) := by omega
      have s_Y : IntKind.u64.wrap (Y : Int) = (Y : Int) := by rw [IntKind.wrap_u64]; omega
      have e_Z : (Y : Int) - (D : Int) = (Z : Int) := by omega
      have s_Z : IntKind.u64.wrap (Z : Int) = (Z : Int) := by rw [IntKind.wrap_u64]; omega
      have u_D : IntKind.u64.wrap (D : Int) = (D : Int) := by rw [IntKind.wrap_u64]; omega
      obtain ⟨I, hI⟩ : ∃ I : Nat, I = i + 1 := ⟨_, rfl⟩
      have e_I : (i : Int) + 1 = (I : Int) := by omega
      have s_I : IntKind.i64.wrap (I : Int) = (I : Int) := by rw [IntKind.wrap_i64]; omega
      have HK := hide (And.intro hX (And.intro hD (And.intro hY (And.intro hZ (And.intro hI (And.intro hbr (And.intro hin hei)))))))
      clear hX hD hY hZ hI hbr hin hei hlt hch hC hDs hSM hSH hJ hsumb hL hXb hc3 ho3 o3 r3 hdig
      go_wp2
      go_quiet (fail)
      go_wp2
      obtain ⟨hX, hD, hY, hZ, hI, hbr, hin, hei⟩ := HK.out
      refine ⟨⟨i + 1, by omega, vint (by omega), ?_, Go.below_drewN hbr nq⟩, by simp [intOf]; omega⟩
      rw [lack_take (by omega), ← hX, ← hD]
      exact vint64 (by omega)
    · obtain rfl : i = 128 := by omega
      have ht : L.take 128 = L := List.take_of_length_le (by omega)
      rw [ht, ← hSM]
      have hbq := keep_trans hb3 hbr
      have hdr := hd.below hbq
      have HK := hide (And.intro hbq hbr)
      clear hC hDs hSM hSH hJ hsumb hL hlt hch hbr ht ho3 o3 r3 hdig hi
      go_wp2_with (first
        | (go_at_call 24; refine (h2 _).mono ?_; rintro e w4 ⟨v4, rfl, o4, hb4⟩; obtain ⟨a4, c4, rfl⟩ := o4.row.form; have hT := hjn _ _ (rows_litL (B := w4.heap.size) (k := 2) (texts_cons (hdr.below hb4) td (texts_cons o4.row o4.tidy (Texts.nil _))) rfl rfl (by decide)))
        | (go_at_call 31; refine hT.mono ?_; rintro e w5 ⟨v5, rfl, o5, hb5⟩; obtain ⟨a5, c5, rfl, _⟩ := o5.row.opens hJl)
        | (go_at_call 113; refine (hdg2 _ _ o5.row).mono ?_; rintro e w6 ⟨v6, rfl, o6, hb6⟩)
        | fail)
      go_ret2
      have hb46 := keep_trans (keep_trans hb4 (keep_alloc _ _)) hb5
      have hbw := keep_trans HK.out.1 hb46
      exact ⟨_, rfl, o6.mono hbw.size, keep_trans hbw hb6⟩
set_option maxHeartbeats 4000000 in
set_option maxRecDepth 100000 in
theorem rdigs_4 (d : List Nat) (dv : Value) (w : World) (hd : Row .u8 256 w dv d) (td : Tidy dv) (hl : d.length = 32) :
    Calls Tryz.prog 85 #[.int .i64 4, dv] w fun e w' => ∃ v, e = .returned (.tuple #[v, .int .i64 0]) ∧ Own 52 .u32 4294967296 w' w.heap.size v (digsL 4 64 3 4 d) ∧ Below w.heap.size w w' := by
  obtain ⟨da, dc, rfl, lc1, lc2, _⟩ := hd.opens hl
  have hk := fun y => rkind_ok y Kd.k4
  have hdig := rdig_any _ d 4 64 w hd (by omega)
  rw [show digS d 4 64 = digL d 4 64 from digS_natL d 4 64 (by decide) (by decide) (by omega)] at hdig
  have hch := chk_lt kind_4 d
  have hc16 := chk_16 kind_4 d
  have hll : (digL d 4 64).length = 64 := digL_length _ _ _
  have hlt : ∀ i, el (digL d 4 64) i ≤ 15 := fun i => by
    by_cases h : i < 64
    · unfold digL el
      rw [List.getElem?_map, List.getElem?_range h]
      have := dig_ltM d 4 i
      show dig d 4 i ≤ 15
      omega
    · unfold el
      rw [List.getElem?_eq_none (by rw [hll]; omega)]
      exact Nat.zero_le _
  obtain ⟨L, hL⟩ : ∃ L, L = digL d 4 64 := ⟨_, rfl⟩
  have hC : chkL 4 64 d = lackL 15 L := by unfold chkL; rw [hL]
  have hDs : digsL 4 64 3 4 d = digL (d ++ (leL (lackL 15 L * 16) 2).reverse) 4 67 := by unfold digsL; rw [hC]
  rw [hC] at hch hc16
  rw [hDs]
  rw [← hL] at hdig hll hlt
  obtain ⟨SM, hSM⟩ : ∃ x : Nat, x = lackL 15 L := ⟨_, rfl⟩
  rw [← hSM] at hch hc16 ⊢
  obtain ⟨SH, hSH⟩ : ∃ x : Nat, x = SM * 16 := ⟨_, rfl⟩
  have hc16' : SH < 65536 := by have : SM * 2 ^ 4 < 65536 := hc16; omega
  have e_SH : (SM : Int) * 16 = (SH : Int) := by omega
  have s_SH : IntKind.u64.wrap (SH : Int) = (SH : Int) := by rw [IntKind.wrap_u64]; omega
  have h2 := fun y => rbe2 SH y (by omega)
  rw [← hSH]
  have hjn := fun y lv (r : Rows2 y lv [d, be2 SH]) => rjoin_any lv _ y r (by simp only [List.flatten_cons, List.flatten_nil, List.append_nil, List.length_append, be2_len]; omega)
  have hfl : [d, be2 SH].flatten = d ++ (leL SH 2).reverse := by simp [be2]
  rw [hfl] at hjn
  obtain ⟨J, hJ⟩ : ∃ J, J = d ++ (leL SH 2).reverse := ⟨_, rfl⟩
  have hJl : J.length = 34 := by rw [hJ, List.length_append, List.length_reverse, leL_length, hl]
  rw [← hJ] at hjn ⊢
  have hdg2 := fun y v (r : Row .u8 256 y v J) => rdig_any v J 4 67 y r (by omega)
  rw [show digS J 4 67 = digL J 4 67 from digS_natL J 4 67 (by decide) (by decide) (by omega)] at hdg2
  have hsumb : ∀ i, i ≤ 64 → lackL 15 (L.take i) ≤ 64 * 15 := fun i hi => by
    have := lack_lt 15 (L.take i)
    rw [List.length_take, hll] at this
    exact Nat.le_trans this (Nat.mul_le_mul_right _ (by omega))
  have HX := hide (And.intro hC (And.intro hDs (And.intro hSM (And.intro hSH (And.intro hJ (And.intro hll (And.intro hsumb hL)))))))
  have HD := hide (And.intro hd (And.intro td (And.intro hlt hch)))
  clear hC hDs hSM hSH hJ hfl hc16 hsumb hd td hL hlt hch
  go_enter Tryz.func85, Tryz.ntmps85
  go_wp2_with (first
    | (go_at_call 77; refine (hk _).mono ?_; rintro e yy ⟨rfl, hy⟩; obtain rfl := hy.symm)
    | (go_at_call 113; refine hdig.mono ?_; rintro e w3 ⟨v3, rfl, o3, hb3⟩; obtain ⟨a3, c3, rfl, _, _, ho3⟩ := o3.row.opens hll)
    | fail)
  have r3 := o3.row
  go_loopw [10, 11] (fun vs vi wr => SmL w3 15 L vs vi wr) (fun _ vi _ => 64 - (intOf vi).toNat)
  case atStart => exact ⟨0, Nat.zero_le _, rfl, rfl, Below.refl _ _⟩
  case round =>
    obtain ⟨i, hi, rfl, rfl, hbr⟩ := hrel
    rename World => wr
    obtain ⟨hC, hDs, hSM, hSH, hJ, hll, hsumb, hL⟩ := HX.out
    obtain ⟨hd, td, hlt, hch⟩ := HD.out
    by_cases hin : i < 64
    · have hii : (i : Int) < 64 := by omega
      have z_i : (0 : Int) ≤ (i : Int) := Int.natCast_nonneg _
      obtain ⟨b3, f3, rfl, hc3⟩ := ho3 (by decide)
      have ci : wr.cell? ⟨b3, f3 + i, none⟩ = some (.int .u32 (el L i)) := keep_cell (hc3 i hin) hbr
      have hei := hlt i
      obtain ⟨X, hX⟩ : ∃ X : Nat, X = lackL 15 (L.take i) := ⟨_, rfl⟩
      have hXb : X ≤ 64 * 15 := by rw [hX]; exact hsumb i (by omega)
      rw [← hX]
      obtain ⟨D, hD⟩ : ∃ D : Nat, D = el L i := ⟨_, rfl⟩
      rw [← hD] at ci hei
      obtain ⟨Y, hY⟩ : ∃ Y : Nat, Y = X + 15 := ⟨_, rfl⟩
      obtain ⟨Z, hZ⟩ : ∃ Z : Nat, Z = Y - D := ⟨_, rfl⟩
      have e_Y : (X : Int) + 15 = (Y : Int) := by omega
      have s_Y : IntKind.u64.wrap (Y : Int) = (Y : Int) := by rw [IntKind.wrap_u64]; omega
      have e_Z : (Y : Int) - (D : Int) = (Z : Int) := by omega
      have s_Z : IntKind.u64.wrap (Z : Int) = (Z : Int) := by rw [IntKind.wrap_u64]; omega
      have u_D : IntKind.u64.wrap (D : Int) = (D : Int) := by rw [IntKind.wrap_u64]; omega
      obtain ⟨I, hI⟩ : ∃ I : Nat, I = i + 1 := ⟨_, rfl⟩
      have e_I : (i : Int) + 1 = (I : Int) := by omega
      have s_I : IntKind.i64.wrap (I : Int) = (I : Int) := by rw [IntKind.wrap_i64]; omega
      have HK := hide (And.intro hX (And.intro hD (And.intro hY (And.intro hZ (And.intro hI (And.intro hbr (And.intro hin hei)))))))
      clear hX hD hY hZ hI hbr hin hei hlt hch hC hDs hSM hSH hJ hsumb hL hXb hc3 ho3 o3 r3 hdig
      go_wp2
      go_quiet (fail)
      go_wp2
      obtain ⟨hX, hD, hY, hZ, hI, hbr, hin, hei⟩ := HK.out
      refine ⟨⟨i + 1, by omega, vint (by omega), ?_, Go.below_drewN hbr nq⟩, by simp [intOf]; omega⟩
      rw [lack_take (by omega), ← hX, ← hD]
      exact vint64 (by omega)
    · obtain rfl : i = 64 := by omega
      have ht : L.take 64 = L := List.take_of_length_le (by omega)
      rw [ht, ← hSM]
      have hbq := keep_trans hb3 hbr
      have hdr := hd.below hbq
      have HK := hide (And.intro hbq hbr)
      clear hC hDs hSM hSH hJ hsumb hL hlt hch hbr ht ho3 o3 r3 hdig hi
      go_wp2_with (first
        | (go_at_call 24; refine (h2 _).mono ?_; rintro e w4 ⟨v4, rfl, o4, hb4⟩; obtain ⟨a4, c4, rfl⟩ := o4.row.form; have hT := hjn _ _ (rows_litL (B := w4.heap.size) (k := 2) (texts_cons (hdr.below hb4) td (texts_cons o4.row o4.tidy (Texts.nil _))) rfl rfl (by decide)))
        | (go_at_call 31; refine hT.mono ?_; rintro e w5 ⟨v5, rfl, o5, hb5⟩; obtain ⟨a5, c5, rfl, _⟩ := o5.row.opens hJl)
        | (go_at_call 113; refine (hdg2 _ _ o5.row).mono ?_; rintro e w6 ⟨v6, rfl, o6, hb6⟩)
        | fail)
      go_ret2
      have hb46 := keep_trans (keep_trans hb4 (keep_alloc _ _)) hb5
      have hbw := keep_trans HK.out.1 hb46
      exact ⟨_, rfl, o6.mono hbw.size, keep_trans hbw hb6⟩
set_option maxHeartbeats 4000000 in
set_option maxRecDepth 100000 in
theorem rdigs_8 (d : List Nat) (dv : Value) (w : World) (hd : Row .u8 256 w dv d) (td : Tidy dv) (hl : d.length = 32) :
    Calls Tryz.prog 85 #[.int .i64 8, dv] w fun e w' => ∃ v, e = .returned (.tuple #[v, .int .i64 0]) ∧ Own 52 .u32 4294967296 w' w.heap.size v (digsL 8 32 2 0 d) ∧ Below w.heap.size w w' := by
  obtain ⟨da, dc, rfl, lc1, lc2, _⟩ := hd.opens hl
  have hk := fun y => rkind_ok y Kd.k8
  have hdig := rdig_any _ d 8 32 w hd (by omega)
  rw [show digS d 8 32 = digL d 8 32 from digS_natL d 8 32 (by decide) (by decide) (by omega)] at hdig
  have hch := chk_lt kind_8 d
  have hc16 := chk_16 kind_8 d
  have hll : (digL d 8 32).length = 32 := digL_length _ _ _
  have hlt : ∀ i, el (digL d 8 32) i ≤ 255 := fun i => by
    by_cases h : i < 32
    · unfold digL el
      rw [List.getElem?_map, List.getElem?_range h]
      have := dig_ltM d 8 i
      show dig d 8 i ≤ 255
      omega
    · unfold el
      rw [List.getElem?_eq_none (by rw [hll]; omega)]
      exact Nat.zero_le _
  obtain ⟨L, hL⟩ : ∃ L, L = digL d 8 32 := ⟨_, rfl⟩
  have hC : chkL 8 32 d = lackL 255 L := by unfold chkL; rw [hL]
  have hDs : digsL 8 32 2 0 d = digL (d ++ (leL (lackL 255 L * 1) 2).reverse) 8 34 := by unfold digsL; rw [hC]
  rw [hC] at hch hc16
  rw [hDs]
  rw [← hL] at hdig hll hlt
  obtain ⟨SM, hSM⟩ : ∃ x : Nat, x = lackL 255 L := ⟨_, rfl⟩
  rw [← hSM] at hch hc16 ⊢
  obtain ⟨SH, hSH⟩ : ∃ x : Nat, x = SM * 1 := ⟨_, rfl⟩
  have hc16' : SH < 65536 := by have : SM * 2 ^ 0 < 65536 := hc16; omega
  have e_SH : (SM : Int) * 1 = (SH : Int) := by omega
  have s_SH : IntKind.u64.wrap (SH : Int) = (SH : Int) := by rw [IntKind.wrap_u64]; omega
  have h2 := fun y => rbe2 SH y (by omega)
  rw [← hSH]
  have hjn := fun y lv (r : Rows2 y lv [d, be2 SH]) => rjoin_any lv _ y r (by simp only [List.flatten_cons, List.flatten_nil, List.append_nil, List.length_append, be2_len]; omega)
  have hfl : [d, be2 SH].flatten = d ++ (leL SH 2).reverse := by simp [be2]
  rw [hfl] at hjn
  obtain ⟨J, hJ⟩ : ∃ J, J = d ++ (leL SH 2).reverse := ⟨_, rfl⟩
  have hJl : J.length = 34 := by rw [hJ, List.length_append, List.length_reverse, leL_length, hl]
  rw [← hJ] at hjn ⊢
  have hdg2 := fun y v (r : Row .u8 256 y v J) => rdig_any v J 8 34 y r (by omega)
  rw [show digS J 8 34 = digL J 8 34 from digS_natL J 8 34 (by decide) (by decide) (by omega)] at hdg2
  have hsumb : ∀ i, i ≤ 32 → lackL 255 (L.take i) ≤ 32 * 255 := fun i hi => by
    have := lack_lt 255 (L.take i)
    rw [List.length_take, hll] at this
    exact Nat.le_trans this (Nat.mul_le_mul_right _ (by omega))
  have HX := hide (And.intro hC (And.intro hDs (And.intro hSM (And.intro hSH (And.intro hJ (And.intro hll (And.intro hsumb hL)))))))
  have HD := hide (And.intro hd (And.intro td (And.intro hlt hch)))
  clear hC hDs hSM hSH hJ hfl hc16 hsumb hd td hL hlt hch
  go_enter Tryz.func85, Tryz.ntmps85
  go_wp2_with (first
    | (go_at_call 77; refine (hk _).mono ?_; rintro e yy ⟨rfl, hy⟩; obtain rfl := hy.symm)
    | (go_at_call 113; refine hdig.mono ?_; rintro e w3 ⟨v3, rfl, o3, hb3⟩; obtain ⟨a3, c3, rfl, _, _, ho3⟩ := o3.row.opens hll)
    | fail)
  have r3 := o3.row
  go_loopw [10, 11] (fun vs vi wr => SmL w3 255 L vs vi wr) (fun _ vi _ => 32 - (intOf vi).toNat)
  case atStart => exact ⟨0, Nat.zero_le _, rfl, rfl, Below.refl _ _⟩
  case round =>
    obtain ⟨i, hi, rfl, rfl, hbr⟩ := hrel
    rename World => wr
    obtain ⟨hC, hDs, hSM, hSH, hJ, hll, hsumb, hL⟩ := HX.out
    obtain ⟨hd, td, hlt, hch⟩ := HD.out
    by_cases hin : i < 32
    · have hii : (i : Int) < 32 := by omega
      have z_i : (0 : Int) ≤ (i : Int) := Int.natCast_nonneg _
      obtain ⟨b3, f3, rfl, hc3⟩ := ho3 (by decide)
      have ci : wr.cell? ⟨b3, f3 + i, none⟩ = some (.int .u32 (el L i)) := keep_cell (hc3 i hin) hbr
      have hei := hlt i
      obtain ⟨X, hX⟩ : ∃ X : Nat, X = lackL 255 (L.take i) := ⟨_, rfl⟩
      have hXb : X ≤ 32 * 255 := by rw [hX]; exact hsumb i (by omega)
      rw [← hX]
      obtain ⟨D, hD⟩ : ∃ D : Nat, D = el L i := ⟨_, rfl⟩
      rw [← hD] at ci hei
      obtain ⟨Y, hY⟩ : ∃ Y : Nat, Y = X + 255 := ⟨_, rfl⟩
      obtain ⟨Z, hZ⟩ : ∃ Z : Nat, Z = Y - D := ⟨_, rfl⟩
      have e_Y : (X : Int) + 255 = (Y : Int) := by omega
      have s_Y : IntKind.u64.wrap (Y : Int) = (Y : Int) := by rw [IntKind.wrap_u64]; omega
      have e_Z : (Y : Int) - (D : Int) = (Z : Int) := by omega
      have s_Z : IntKind.u64.wrap (Z : Int) = (Z : Int) := by rw [IntKind.wrap_u64]; omega
      have u_D : IntKind.u64.wrap (D : Int) = (D : Int) := by rw [IntKind.wrap_u64]; omega
      obtain ⟨I, hI⟩ : ∃ I : Nat, I = i + 1 := ⟨_, rfl⟩
      have e_I : (i : Int) + 1 = (I : Int) := by omega
      have s_I : IntKind.i64.wrap (I : Int) = (I : Int) := by rw [IntKind.wrap_i64]; omega
      have HK := hide (And.intro hX (And.intro hD (And.intro hY (And.intro hZ (And.intro hI (And.intro hbr (And.intro hin hei)))))))
      clear hX hD hY hZ hI hbr hin hei hlt hch hC hDs hSM hSH hJ hsumb hL hXb hc3 ho3 o3 r3 hdig
      go_wp2
      go_quiet (fail)
      go_wp2
      obtain ⟨hX, hD, hY, hZ, hI, hbr, hin, hei⟩ := HK.out
      refine ⟨⟨i + 1, by omega, vint (by omega), ?_, Go.below_drewN hbr nq⟩, by simp [intOf]; omega⟩
      rw [lack_take (by omega), ← hX, ← hD]
      exact vint64 (by omega)
    · obtain rfl : i = 32 := by omega
      have ht : L.take 32 = L := List.take_of_length_le (by omega)
      rw [ht, ← hSM]
      have hbq := keep_trans hb3 hbr
      have hdr := hd.below hbq
      have HK := hide (And.intro hbq hbr)
      clear hC hDs hSM hSH hJ hsumb hL hlt hch hbr ht ho3 o3 r3 hdig hi
      go_wp2_with (first
        | (go_at_call 24; refine (h2 _).mono ?_; rintro e w4 ⟨v4, rfl, o4, hb4⟩; obtain ⟨a4, c4, rfl⟩ := o4.row.form; have hT := hjn _ _ (rows_litL (B := w4.heap.size) (k := 2) (texts_cons (hdr.below hb4) td (texts_cons o4.row o4.tidy (Texts.nil _))) rfl rfl (by decide)))
        | (go_at_call 31; refine hT.mono ?_; rintro e w5 ⟨v5, rfl, o5, hb5⟩; obtain ⟨a5, c5, rfl, _⟩ := o5.row.opens hJl)
        | (go_at_call 113; refine (hdg2 _ _ o5.row).mono ?_; rintro e w6 ⟨v6, rfl, o6, hb6⟩)
        | fail)
      go_ret2
      have hb46 := keep_trans (keep_trans hb4 (keep_alloc _ _)) hb5
      have hbw := keep_trans HK.out.1 hb46
      exact ⟨_, rfl, o6.mono hbw.size, keep_trans hbw hb6⟩
end Go.Proofs.YtogiballdmgcpaaGreatDoor

/- Texts that are laid into a slice of the call's own, which grows. -/
namespace Go.Proofs.YtogiballdmgcpaaGreatDoor
open Go.RowKit
set_option linter.unusedVariables false
set_option linter.unusedSimpArgs false

/-- u lies apart from the slice vo -/
def Apart1 (w : World) (vo u : Value) : Prop := ∀ q, u.ownBlock = some q → q < w.heap.size ∧ vo.ownBlock ≠ some q
/-- vo is a slice of the call's own; the texts in it lie apart from it -/
structure GrT (w : World) (B : Nat) (vo : Value) (ls : List (List Nat)) : Prop where
  ex : ∃ us, w.ownsRow B 23 1 vo ls.length us ∧ Texts w us ls ∧ ∀ u ∈ us, Apart1 w vo u
theorem GrT.nil (w : World) (B : Nat) : GrT w B (.slice none 0 0) [] := ⟨⟨[], World.ownsRow_nil _ _ _ _, Texts.nil _, fun u h => by cases h⟩⟩
theorem GrT.rows {w : World} {B : Nat} {vo : Value} {ls : List (List Nat)} (h : GrT w B vo ls) : Rows2 w vo ls := by
  obtain ⟨us, h1, h2, _⟩ := h.ex
  exact h2.rows2 h1
theorem GrT.below {w w' : World} {B : Nat} {vo : Value} {ls : List (List Nat)} (h : GrT w B vo ls) (hb : Below w.heap.size w w') : GrT w' B vo ls := by
  obtain ⟨us, h1, h2, h3⟩ := h.ex
  refine ⟨⟨us, h1.kept (row := none) ⟨hb.os, hb.tape, hb.output, hb.size, fun k hk _ => hb.block k hk⟩ ?_, h2.below hb, fun u hu q hq => ?_⟩⟩
  · cases hvo : vo.ownBlock with
    | none => exact .inl rfl
    | some q => exact .inr (by simp)
  · obtain ⟨k1, k2⟩ := h3 u hu q hq
    exact ⟨Nat.lt_of_lt_of_le k1 hb.size, k2⟩
theorem GrT.slice {w : World} {B : Nat} {vo : Value} {ls : List (List Nat)} (h : GrT w B vo ls) : ∃ a c, vo = .slice a ls.length c := by
  obtain ⟨us, h1, _, _⟩ := h.ex
  rcases h1.2 with ⟨rfl, h0⟩ | ⟨g, cap, cur, rfl, _⟩
  · exact ⟨none, 0, by rw [h0]⟩
  · exact ⟨_, _, rfl⟩
theorem row_grownT {w w' : World} {row : Option Nat} {u : Value} {l : List Nat} (h : Row .u8 256 w u l) (hg : w.grownBy w' row) (hn : ∀ q, u.ownBlock = some q → some q ≠ row) : Row .u8 256 w' u l := by
  obtain ⟨a, cap, rfl, h1, h2, h3, h4⟩ := h
  refine ⟨a, cap, rfl, h1, h2, fun hl => ?_, h4⟩
  obtain ⟨b, off, rfl, hc⟩ := h3 hl
  refine ⟨b, off, rfl, fun i hi => hg.cell (hc i hi) (hn b (by simp [Value.ownBlock]))⟩
/-- a text more -/
theorem GrT.push {w w' : World} {B g cap : Nat} {vo u : Value} {ls : List (List Nat)} {x : List Nat} {us : List Value} (ht : Texts w us ls) (ha : ∀ u ∈ us, Apart1 w vo u) (hu : Row .u8 256 w u x) (tu : Tidy u) (au : Apart1 w vo u)
    (hown : w'.ownsRow B 23 1 (.slice (some ⟨g, 0, none⟩) (ls.length + 1) cap) (ls.length + 1) (us ++ [u])) (hg : w.grownBy w' vo.ownBlock) (hl : vo.ownBlock = some g ∨ g = w.heap.size) : GrT w' B (.slice (some ⟨g, 0, none⟩) (ls.length + 1) cap) (ls ++ [x]) := by
  have ap : ∀ v, Apart1 w vo v → Apart1 w' (.slice (some ⟨g, 0, none⟩) (ls.length + 1) cap) v := fun v hv q hq => by
    obtain ⟨k1, k2⟩ := hv q hq
    refine ⟨Nat.lt_of_lt_of_le k1 hg.size, fun e => ?_⟩
    have eg : g = q := by simpa [Value.ownBlock] using e
    rcases hl with h | h
    · exact k2 (by rw [h, eg])
    · omega
  refine ⟨⟨us ++ [u], by rw [List.length_append]; exact hown, ?_, fun v hv => ?_⟩⟩
  · have h1 : Texts w' us ls := ⟨ht.1, fun i hi => by
      obtain ⟨v, k1, k2, k3⟩ := ht.2 i hi
      exact ⟨v, k1, row_grownT k2 hg (fun q hq e => (ha v (List.mem_of_getElem? k1) q hq).2 e.symm), k3⟩⟩
    exact h1.append (Texts.one (row_grownT hu hg (fun q hq e => (au q hq).2 e.symm)) tu)
  · rcases List.mem_append.1 hv with h | h
    · exact ap v (ha v h)
    · have : v = u := by simpa using h
      rw [this]
      exact ap u au
theorem apart_new {w w' : World} {B n : Nat} {vo u : Value} {l : List Nat} {us : List Value} (hown : w.ownsRow B 23 1 vo n us) (hu : Row .u8 256 w' u l) (hl : 0 < l.length) (hn : New w.heap.size u) : Apart1 w' vo u := fun q hq =>
  ⟨hu.old hl hq, fun e => by have h1 := (hown.lt q e).2; have h2 := hn q hq; omega⟩
theorem apart_old {w w0 : World} {B n : Nat} {vo u : Value} {l : List Nat} {us : List Value} (hown : w.ownsRow B 23 1 vo n us) (hu : Row .u8 256 w0 u l) (hl : 0 < l.length) (hB : w0.heap.size ≤ B) (hw : w0.heap.size ≤ w.heap.size) : Apart1 w vo u := fun q hq =>
  ⟨Nat.lt_of_lt_of_le (hu.old hl hq) hw, fun e => by have h1 := (hown.lt q e).1; have h2 := hu.old hl hq; omega⟩
theorem Apart1.below {w w' : World} {vo u : Value} (h : Apart1 w vo u) (hs : w.heap.size ≤ w'.heap.size) : Apart1 w' vo u := fun q hq => ⟨Nat.lt_of_lt_of_le (h q hq).1 hs, (h q hq).2⟩
end Go.Proofs.YtogiballdmgcpaaGreatDoor

/- Leaves that sign once: the document's Public. -/
namespace Go.Proofs.YtogiballdmgcpaaGreatDoor
open Go.RowKit
set_option linter.unusedVariables false
set_option linter.unusedSimpArgs false

theorem map_take (f : Nat → List Nat) {P i : Nat} (h : i < P) : ((List.range P).map f).take (i + 1) = ((List.range P).map f).take i ++ [f i] := by
  rw [List.take_succ_eq_append_getElem (by simp; exact h)]
  simp
theorem map_len (f : Nat → List Nat) (P i : Nat) (h : i ≤ P) : (((List.range P).map f).take i).length = i := by rw [List.length_take, List.length_map, List.length_range]; omega
/-- where a loop over parts stands -/
def PbL (w : World) (P : Nat) (f : Nat → List Nat) (vo vi : Value) (wr : World) : Prop := ∃ i : Nat, i ≤ P ∧ vi = .int .i64 (i : Int) ∧ GrT wr w.heap.size vo (((List.range P).map f).take i) ∧ Below w.heap.size w wr
theorem cell_one0 (w : World) (u : Value) (t : TypeId) : ∀ j x, [u][j]? = some x → (w.alloc (.cells #[u] t)).cell? ((⟨w.heap.size, 0, none⟩ : Addr).add j) = some x := fun j x h => by
  have : j = 0 := by have := (List.getElem?_eq_some_iff.1 h).1; simp at this; exact this
  subst this
  rw [Addr.add_lit, World.cell?_alloc_at _ _ _ _ rfl]
  simpa using h
theorem own_grT {w w' : World} {B n : Nat} {vo : Value} {us : List Value} (h : w.ownsRow B 23 1 vo n us) (hb : Below w.heap.size w w') : w'.ownsRow B 23 1 vo n us := by
  refine h.kept (row := none) ⟨hb.os, hb.tape, hb.output, hb.size, fun k hk _ => hb.block k hk⟩ ?_
  cases hvo : vo.ownBlock with
  | none => exact .inl rfl
  | some q => exact .inr (by simp)
end Go.Proofs.YtogiballdmgcpaaGreatDoor

/- Trees of leaves that sign once: the document's Public. -/
namespace Go.Proofs.YtogiballdmgcpaaGreatDoor
open Go.RowKit
set_option linter.unusedVariables false
set_option linter.unusedSimpArgs false

theorem pow_le_1024 {h : Nat} (hh : h ≤ 10) : 2 ^ h ≤ 1024 := by
  have := Nat.pow_le_pow_right (n := 2) (by decide) hh
  simpa using this
end Go.Proofs.YtogiballdmgcpaaGreatDoor

/- Trees of leaves that sign once: the document's Public where it answers, by a plan. -/
namespace Go.Proofs.YtogiballdmgcpaaGreatDoor
open Go.RowKit
set_option linter.unusedVariables false
set_option linter.unusedSimpArgs false

theorem Bx2T.range {W : World} {B : Nat} {v0 v1 : Value} (h : Bx2T W B v0 v1) : W.rangeAt B 0 [v0, v1] := fun j v hv => by
  match j, hv with
  | 0, hv => simp at hv; subst hv; exact h.c0
  | 1, hv => simp at hv; subst hv; exact h.c1
section
variable {P : Program} {ops : Array Oper} {Q : Exit → Act → World → Prop} {K : Act → World → Prop}
end
end Go.Proofs.YtogiballdmgcpaaGreatDoor
