/- Leaves that sign once: the document's Digits. -/
import Derived.Test.YtogiballdmgcpaaGreatDoorLmR
import Derived.Test.YtogiballdmgcpaaGreatDoorHkF
import Derived.BigQuiet
namespace Go.Proofs.YtogiballdmgcpaaGreatDoor
open Go.RowKit
set_option linter.unusedVariables false
set_option linter.unusedSimpArgs false

theorem digS_natL (l : List Nat) (w c : Nat) (h1 : 1 ≤ w) (h2 : w ≤ 24) (h3 : c * w ≤ 8 * l.length) : digS l (w : Int) (c : Int) = digL l w c := by
  unfold digS
  rw [if_pos (okB_mk h1 h2 h3)]
  rfl
theorem lack_take {m i : Nat} {l : List Nat} (h : i < l.length) : lackL m (l.take (i + 1)) = lackL m (l.take i) + (m - el l i) := by
  rw [List.take_succ_eq_append_getElem h, lack_snoc, el_at h]
/-- where the sum stands -/
def SmL (w3 : World) (m : Nat) (l : List Nat) (vs vi : Value) (wr : World) : Prop := ∃ i : Nat, i ≤ l.length ∧ vi = .int .i64 (i : Int) ∧ vs = .int .u64 ((lackL m (l.take i) : Nat) : Int) ∧ Below w3.heap.size w3 wr
theorem vint64 {a b : Int} (h : a = b) : Value.int .u64 a = .int .u64 b := by rw [h]
set_option maxHeartbeats 4000000 in
set_option maxRecDepth 100000 in
theorem rdigs_1 (d : List Nat) (dv : Value) (w : World) (hd : Row .u8 256 w dv d) (td : Tidy dv) (hl : d.length = 32) :
    Calls Tryz.prog 85 #[.int .i64 1, dv] w fun e w' => ∃ v, e = .returned (.tuple #[v, .int .i64 0]) ∧ Own 52 .u32 4294967296 w' w.heap.size v (digsL 1 256 9 7 d) ∧ Below w.heap.size w w' := by
  obtain ⟨da, dc, rfl, lc1, lc2, _⟩ := hd.opens hl
  have hk := fun y => rkind_ok y Kd.k1
  have hdig := rdig_any _ d 1 256 w hd (by omega)
  rw [show digS d 1 256 = digL d 1 256 from digS_natL d 1 256 (by decide) (by decide) (by omega)] at hdig
  have hch := chk_lt kind_1 d
  have hc16 := chk_16 kind_1 d
  have hll : (digL d 1 256).length = 256 := digL_length _ _ _
  have hlt : ∀ i, el (digL d 1 256) i ≤ 1 := fun i => by
    by_cases h : i < 256
    · unfold digL el
      rw [List.getElem?_map, List.getElem?_range h]
      have := dig_ltM d 1 i
      show dig d 1 i ≤ 1
      omega
    · unfold el
      rw [List.getElem?_eq_none (by rw [hll]; omega)]
      exact Nat.zero_le _
  obtain ⟨L, hL⟩ : ∃ L, L = digL d 1 256 := ⟨_, rfl⟩
  have hC : chkL 1 256 d = lackL 1 L := by unfold chkL; rw [hL]
  have hDs : digsL 1 256 9 7 d = digL (d ++ (leL (lackL 1 L * 128) 2).reverse) 1 265 := by unfold digsL; rw [hC]
  rw [hC] at hch hc16
  rw [hDs]
  rw [← hL] at hdig hll hlt
  obtain ⟨SM, hSM⟩ : ∃ x : Nat, x = lackL 1 L := ⟨_, rfl⟩
  rw [← hSM] at hch hc16 ⊢
  obtain ⟨SH, hSH⟩ : ∃ x : Nat, x = SM * 128 := ⟨_, rfl⟩
  have hc16' : SH < 65536 := by have : SM * 2 ^ 7 < 65536 := hc16; omega
  have e_SH : (SM : Int) * 128 = (SH : Int) := by omega
  have s_SH : IntKind.u64.wrap (SH : Int) = (SH : Int) := by rw [IntKind.wrap_u64]; omega
  have h2 := fun y => rbe2 SH y (by omega)
  rw [← hSH]
  have hjn := fun y lv (r : Rows2 y lv [d, be2 SH]) => rjoin_any lv _ y r (by simp only [List.flatten_cons, List.flatten_nil, List.append_nil, List.length_append, be2_len]; omega)
  have hfl : [d, be2 SH].flatten = d ++ (leL SH 2).reverse := by simp [be2]
  rw [hfl] at hjn
  obtain ⟨J, hJ⟩ : ∃ J, J = d ++ (leL SH 2).reverse := ⟨_, rfl⟩
  have hJl : J.length = 34 := by rw [hJ, List.length_append, List.length_reverse, leL_length, hl]
  rw [← hJ] at hjn ⊢
  have hdg2 := fun y v (r : Row .u8 256 y v J) => rdig_any v J 1 265 y r (by omega)
  rw [show digS J 1 265 = digL J 1 265 from digS_natL J 1 265 (by decide) (by decide) (by omega)] at hdg2
  have hsumb : ∀ i, i ≤ 256 → lackL 1 (L.take i) ≤ 256 * 1 := fun i hi => by
    have := lack_lt 1 (L.take i)
    rw [List.length_take, hll] at this
    exact Nat.le_trans this (Nat.mul_le_mul_right _ (by omega))
  have HX := hide (And.intro hC (And.intro hDs (And.intro hSM (And.intro hSH (And.intro hJ (And.intro hll (And.intro hsumb hL)))))))
  have HD := hide (And.intro hd (And.intro td (And.intro hlt hch)))
  clear hC hDs hSM hSH hJ hfl hc16 hsumb hd td hL hlt hch
  go_enter Tryz.func85, Tryz.ntmps85
  go_wp2_with (first
    | (go_at_call 77; refine (hk _).mono ?_; rintro e yy ⟨rfl, hy⟩; obtain rfl := hy.symm)
    | (go_at_call 113; refine hdig.mono ?_; rintro e w3 ⟨v3, rfl, o3, hb3⟩; obtain ⟨a3, c3, rfl, _, _, ho3⟩ := o3.row.opens hll)
    | fail)
  have r3 := o3.row
  go_loopw [10, 11] (fun vs vi wr => SmL w3 1 L vs vi wr) (fun _ vi _ => 256 - (intOf vi).toNat)
  case atStart => exact ⟨0, Nat.zero_le _, rfl, rfl, Below.refl _ _⟩
  case round =>
    obtain ⟨i, hi, rfl, rfl, hbr⟩ := hrel
    rename World => wr
    obtain ⟨hC, hDs, hSM, hSH, hJ, hll, hsumb, hL⟩ := HX.out
    obtain ⟨hd, td, hlt, hch⟩ := HD.out
    by_cases hin : i < 256
    · have hii : (i : Int) < 256 := by omega
      have z_i : (0 : Int) ≤ (i : Int) := Int.natCast_nonneg _
      obtain ⟨b3, f3, rfl, hc3⟩ := ho3 (by decide)
      have ci : wr.cell? ⟨b3, f3 + i, none⟩ = some (.int .u32 (el L i)) := keep_cell (hc3 i hin) hbr
      have hei := hlt i
      obtain ⟨X, hX⟩ : ∃ X : Nat, X = lackL 1 (L.take i) := ⟨_, rfl⟩
      have hXb : X ≤ 256 * 1 := by rw [hX]; exact hsumb i (by omega)
      rw [← hX]
      obtain ⟨D, hD⟩ : ∃ D : Nat, D = el L i := ⟨_, rfl⟩
      rw [← hD] at ci hei
      obtain ⟨Y, hY⟩ : ∃ Y : Nat, Y = X + 1 := ⟨_, rfl⟩
      obtain ⟨Z, hZ⟩ : ∃ Z : Nat, Z = Y - D := ⟨_, rfl⟩
      have e_Y : (X : Int) + 1 = (Y : Int) := by omega
      have s_Y : IntKind.u64.wrap (Y : Int) = (Y : Int) := by rw [IntKind.wrap_u64]; omega
      have e_Z : (Y : Int) - (D : Int) = (Z : Int) := by omega
      have s_Z : IntKind.u64.wrap (Z : Int) = (Z : Int) := by rw [IntKind.wrap_u64]; omega
      have u_D : IntKind.u64.wrap (D : Int) = (D : Int) := by rw [IntKind.wrap_u64]; omega
      obtain ⟨I, hI⟩ : ∃ I : Nat, I = i + 1 := ⟨_, rfl⟩
      have e_I : (i : Int) + 1 = (I : Int) := by omega
      have s_I : IntKind.i64.wrap (I : Int) = (I : Int) := by rw [IntKind.wrap_i64]; omega
      have HK := hide (And.intro hX (And.intro hD (And.intro hY (And.intro hZ (And.intro hI (And.intro hbr (And.intro hin hei)))))))
      clear hX hD hY hZ hI hbr hin hei hlt hch hC hDs hSM hSH hJ hsumb hL hXb hc3 ho3 o3 r3 hdig
      go_wp2
      go_quiet (fail)
      go_wp2
      obtain ⟨hX, hD, hY, hZ, hI, hbr, hin, hei⟩ := HK.out
      refine ⟨⟨i + 1, by omega, vint (by omega), ?_, Go.below_drewN hbr nq⟩, by simp [intOf]; omega⟩
      rw [lack_take (by omega), ← hX, ← hD]
      exact vint64 (by omega)
    · obtain rfl : i = 256 := by omega
      have ht : L.take 256 = L := List.take_of_length_le (by omega)
      rw [ht, ← hSM]
      have hbq := keep_trans hb3 hbr
      have hdr := hd.below hbq
      have HK := hide (And.intro hbq hbr)
      clear hC hDs hSM hSH hJ hsumb hL hlt hch hbr ht ho3 o3 r3 hdig hi
      go_wp2_with (first
        | (go_at_call 24; refine (h2 _).mono ?_; rintro e w4 ⟨v4, rfl, o4, hb4⟩; obtain ⟨a4, c4, rfl⟩ := o4.row.form; have hT := hjn _ _ (rows_litL (B := w4.heap.size) (k := 2) (texts_cons (hdr.below hb4) td (texts_cons o4.row o4.tidy (Texts.nil _))) rfl rfl (by decide)))
        | (go_at_call 31; refine hT.mono ?_; rintro e w5 ⟨v5, rfl, o5, hb5⟩; obtain ⟨a5, c5, rfl, _⟩ := o5.row.opens hJl)
        | (go_at_call 113; refine (hdg2 _ _ o5.row).mono ?_; rintro e w6 ⟨v6, rfl, o6, hb6⟩)
        | fail)
      go_ret2
      have hb46 := keep_trans (keep_trans hb4 (keep_alloc _ _)) hb5
      have hbw := keep_trans HK.out.1 hb46
      exact ⟨_, rfl, o6.mono hbw.size, keep_trans hbw hb6⟩
set_option maxHeartbeats 4000000 in
set_option maxRecDepth 100000 in
theorem rdigs_2 (d : List Nat) (dv : Value) (w : World) (hd : Row .u8 256 w dv d) (td : Tidy dv) (hl : d.length = 32) :
    Calls Tryz.prog 85 #[.int .i64 2, dv] w fun e w' => ∃ v, e = .returned (.tuple #[v, .int .i64 0]) ∧ Own 52 .u32 4294967296 w' w.heap.size v (digsL 2 128 5 6 d) ∧ Below w.heap.size w w' := by
  obtain ⟨da, dc, rfl, lc1, lc2, _⟩ := hd.opens hl
  have hk := fun y => rkind_ok y Kd.k2
  have hdig := rdig_any _ d 2 128 w hd (by omega)
  rw [show digS d 2 128 = digL d 2 128 from digS_natL d 2 128 (by decide) (by decide) (by omega)] at hdig
  have hch := chk_lt kind_2 d
  have hc16 := chk_16 kind_2 d
  have hll : (digL d 2 128).length = 128 := digL_length _ _ _
  have hlt : ∀ i, el (digL d 2 128) i ≤ 3 := fun i => by
    by_cases h : i < 128
    · unfold digL el
      rw [List.getElem?_map, List.getElem?_range h]
      have := dig_ltM d 2 i
      show dig d 2 i ≤ 3
      omega
    · unfold el
      rw [List.getElem?_eq_none (by rw [hll]; omega)]
      exact Nat.zero_le _
  obtain ⟨L, hL⟩ : ∃ L, L = digL d 2 128 := ⟨_, rfl⟩
  have hC : chkL 2 128 d = lackL 3 L := by unfold chkL; rw [hL]
  have hDs : digsL 2 128 5 6 d = digL (d ++ (leL (lackL 3 L * 64) 2).reverse) 2 133 := by unfold digsL; rw [hC]
  rw [hC] at hch hc16
  rw [hDs]
  rw [← hL] at hdig hll hlt
  obtain ⟨SM, hSM⟩ : ∃ x : Nat, x = lackL 3 L := ⟨_, rfl⟩
  rw [← hSM] at hch hc16 ⊢
  obtain ⟨SH, hSH⟩ : ∃ x : Nat, x = SM * 64 := ⟨_, rfl⟩
  have hc16' : SH < 65536 := by have : SM * 2 ^ 6 < 65536 := hc16; omega
  have e_SH : (SM : Int) * 64 = (SH : Int) := by omega
  have s_SH : IntKind.u64.wrap (SH : Int) = (SH : Int) := by rw [IntKind.wrap_u64]; omega
  have h2 := fun y => rbe2 SH y (by omega)
  rw [← hSH]
  have hjn := fun y lv (r : Rows2 y lv [d, be2 SH]) => rjoin_any lv _ y r (by simp only [List.flatten_cons, List.flatten_nil, List.append_nil, List.length_append, be2_len]; omega)
  have hfl : [d, be2 SH].flatten = d ++ (leL SH 2).reverse := by simp [be2]
  rw [hfl] at hjn
  obtain ⟨J, hJ⟩ : ∃ J, J = d ++ (leL SH 2).reverse := ⟨_, rfl⟩
  have hJl : J.length = 34 := by rw [hJ, List.length_append, List.length_reverse, leL_length, hl]
  rw [← hJ] at hjn ⊢
  have hdg2 := fun y v (r : Row .u8 256 y v J) => rdig_any v J 2 133 y r (by omega)
  rw [show digS J 2 133 = digL J 2 133 from digS_natL J 2 133 (by decide) (by decide) (by omega)] at hdg2
  have hsumb : ∀ i, i ≤ 128 → lackL 3 (L.take i) ≤ 128 * 3 := fun i hi => by
    have := lack_lt 3 (L.take i)
    rw [List.length_take, hll] at this
    exact Nat.le_trans this (Nat.mul_le_mul_right _ (by omega))
  have HX := hide (And.intro hC (And.intro hDs (And.intro hSM (And.intro hSH (And.intro hJ (And.intro hll (And.intro hsumb hL)))))))
  have HD := hide (And.intro hd (And.intro td (And.intro hlt hch)))
  clear hC hDs hSM hSH hJ hfl hc16 hsumb hd td hL hlt hch
  go_enter Tryz.func85, Tryz.ntmps85
  go_wp2_with (first
    | (go_at_call 77; refine (hk _).mono ?_; rintro e yy ⟨rfl, hy⟩; obtain rfl := hy.symm)
    | (go_at_call 113; refine hdig.mono ?_; rintro e w3 ⟨v3, rfl, o3, hb3⟩; obtain ⟨a3, c3, rfl, _, _, ho3⟩ := o3.row.opens hll)
    | fail)
  have r3 := o3.row
  go_loopw [10, 11] (fun vs vi wr => SmL w3 3 L vs vi wr) (fun _ vi _ => 128 - (intOf vi).toNat)
  case atStart => exact ⟨0, Nat.zero_le _, rfl, rfl, Below.refl _ _⟩
  case round =>
    obtain ⟨i, hi, rfl, rfl, hbr⟩ := hrel
    rename World => wr
    obtain ⟨hC, hDs, hSM, hSH, hJ, hll, hsumb, hL⟩ := HX.out
    obtain ⟨hd, td, hlt, hch⟩ := HD.out
    by_cases hin : i < 128
    · have hii : (i : Int) < 128 := by omega
      have z_i : (0 : Int) ≤ (i : Int) := Int.natCast_nonneg _
      obtain ⟨b3, f3, rfl, hc3⟩ := ho3 (by decide)
      have ci : wr.cell? ⟨b3, f3 + i, none⟩ = some (.int .u32 (el L i)) := keep_cell (hc3 i hin) hbr
      have hei := hlt i
      obtain ⟨X, hX⟩ : ∃ X : Nat, X = lackL 3 (L.take i) := ⟨_, rfl⟩
      have hXb : X ≤ 128 * 3 := by rw [hX]; exact hsumb i (by omega)
      rw [← hX]
      obtain ⟨D, hD⟩ : ∃ D : Nat, D = el L i := ⟨_, rfl⟩
      rw [← hD] at ci hei
      obtain ⟨Y, hY⟩ : ∃ Y : Nat, Y = X + 3 := ⟨_, rfl⟩
      obtain ⟨Z, hZ⟩ : ∃ Z : Nat, Z = Y - D := ⟨_, rfl⟩
      have e_Y : (X : Int) + 3 = (Y : Int) := by omega
      have s_Y : IntKind.u64.wrap (Y : Int) = (Y : Int) := by rw [IntKind.wrap_u64]; omega
      have e_Z : (Y : Int) - (D : Int) = (Z : Int) := by omega
      have s_Z : IntKind.u64.wrap (Z : Int) = (Z : Int) := by rw [IntKind.wrap_u64]; omega
      have u_D : IntKind.u64.wrap (D : Int) = (D : Int) := by rw [IntKind.wrap_u64]; omega
      obtain ⟨I, hI⟩ : ∃ I : Nat, I = i + 1 := ⟨_, rfl⟩
      have e_I : (i : Int) + 1 = (I : Int) := by omega
      have s_I : IntKind.i64.wrap (I : Int) = (I : Int) := by rw [IntKind.wrap_i64]; omega
      have HK := hide (And.intro hX (And.intro hD (And.intro hY (And.intro hZ (And.intro hI (And.intro hbr (And.intro hin hei)))))))
      clear hX hD hY hZ hI hbr hin hei hlt hch hC hDs hSM hSH hJ hsumb hL hXb hc3 ho3 o3 r3 hdig
      go_wp2
      go_quiet (fail)
      go_wp2
      obtain ⟨hX, hD, hY, hZ, hI, hbr, hin, hei⟩ := HK.out
      refine ⟨⟨i + 1, by omega, vint (by omega), ?_, Go.below_drewN hbr nq⟩, by simp [intOf]; omega⟩
      rw [lack_take (by omega), ← hX, ← hD]
      exact vint64 (by omega)
    · obtain rfl : i = 128 := by omega
      have ht : L.take 128 = L := List.take_of_length_le (by omega)
      rw [ht, ← hSM]
      have hbq := keep_trans hb3 hbr
      have hdr := hd.below hbq
      have HK := hide (And.intro hbq hbr)
      clear hC hDs hSM hSH hJ hsumb hL hlt hch hbr ht ho3 o3 r3 hdig hi
      go_wp2_with (first
        | (go_at_call 24; refine (h2 _).mono ?_; rintro e w4 ⟨v4, rfl, o4, hb4⟩; obtain ⟨a4, c4, rfl⟩ := o4.row.form; have hT := hjn _ _ (rows_litL (B := w4.heap.size) (k := 2) (texts_cons (hdr.below hb4) td (texts_cons o4.row o4.tidy (Texts.nil _))) rfl rfl (by decide)))
        | (go_at_call 31; refine hT.mono ?_; rintro e w5 ⟨v5, rfl, o5, hb5⟩; obtain ⟨a5, c5, rfl, _⟩ := o5.row.opens hJl)
        | (go_at_call 113; refine (hdg2 _ _ o5.row).mono ?_; rintro e w6 ⟨v6, rfl, o6, hb6⟩)
        | fail)
      go_ret2
      have hb46 := keep_trans (keep_trans hb4 (keep_alloc _ _)) hb5
      have hbw := keep_trans HK.out.1 hb46
      exact ⟨_, rfl, o6.mono hbw.size, keep_trans hbw hb6⟩
set_option maxHeartbeats 4000000 in
set_option maxRecDepth 100000 in
theorem rdigs_4 (d : List Nat) (dv : Value) (w : World) (hd : Row .u8 256 w dv d) (td : Tidy dv) (hl : d.length = 32) :
    Calls Tryz.prog 85 #[.int .i64 4, dv] w fun e w' => ∃ v, e = .returned (.tuple #[v, .int .i64 0]) ∧ Own 52 .u32 4294967296 w' w.heap.size v (digsL 4 64 3 4 d) ∧ Below w.heap.size w w' := by
  obtain ⟨da, dc, rfl, lc1, lc2, _⟩ := hd.opens hl
  have hk := fun y => rkind_ok y Kd.k4
  have hdig := rdig_any _ d 4 64 w hd (by omega)
  rw [show digS d 4 64 = digL d 4 64 from digS_natL d 4 64 (by decide) (by decide) (by omega)] at hdig
  have hch := chk_lt kind_4 d
  have hc16 := chk_16 kind_4 d
  have hll : (digL d 4 64).length = 64 := digL_length _ _ _
  have hlt : ∀ i, el (digL d 4 64) i ≤ 15 := fun i => by
    by_cases h : i < 64
    · unfold digL el
      rw [List.getElem?_map, List.getElem?_range h]
      have := dig_ltM d 4 i
      show dig d 4 i ≤ 15
      omega
    · unfold el
      rw [List.getElem?_eq_none (by rw [hll]; omega)]
      exact Nat.zero_le _
  obtain ⟨L, hL⟩ : ∃ L, L = digL d 4 64 := ⟨_, rfl⟩
  have hC : chkL 4 64 d = lackL 15 L := by unfold chkL; rw [hL]
  have hDs : digsL 4 64 3 4 d = digL (d ++ (leL (lackL 15 L * 16) 2).reverse) 4 67 := by unfold digsL; rw [hC]
  rw [hC] at hch hc16
  rw [hDs]
  rw [← hL] at hdig hll hlt
  obtain ⟨SM, hSM⟩ : ∃ x : Nat, x = lackL 15 L := ⟨_, rfl⟩
  rw [← hSM] at hch hc16 ⊢
  obtain ⟨SH, hSH⟩ : ∃ x : Nat, x = SM * 16 := ⟨_, rfl⟩
  have hc16' : SH < 65536 := by have : SM * 2 ^ 4 < 65536 := hc16; omega
  have e_SH : (SM : Int) * 16 = (SH : Int) := by omega
  have s_SH : IntKind.u64.wrap (SH : Int) = (SH : Int) := by rw [IntKind.wrap_u64]; omega
  have h2 := fun y => rbe2 SH y (by omega)
  rw [← hSH]
  have hjn := fun y lv (r : Rows2 y lv [d, be2 SH]) => rjoin_any lv _ y r (by simp only [List.flatten_cons, List.flatten_nil, List.append_nil, List.length_append, be2_len]; omega)
  have hfl : [d, be2 SH].flatten = d ++ (leL SH 2).reverse := by simp [be2]
  rw [hfl] at hjn
  obtain ⟨J, hJ⟩ : ∃ J, J = d ++ (leL SH 2).reverse := ⟨_, rfl⟩
  have hJl : J.length = 34 := by rw [hJ, List.length_append, List.length_reverse, leL_length, hl]
  rw [← hJ] at hjn ⊢
  have hdg2 := fun y v (r : Row .u8 256 y v J) => rdig_any v J 4 67 y r (by omega)
  rw [show digS J 4 67 = digL J 4 67 from digS_natL J 4 67 (by decide) (by decide) (by omega)] at hdg2
  have hsumb : ∀ i, i ≤ 64 → lackL 15 (L.take i) ≤ 64 * 15 := fun i hi => by
    have := lack_lt 15 (L.take i)
    rw [List.length_take, hll] at this
    exact Nat.le_trans this (Nat.mul_le_mul_right _ (by omega))
  have HX := hide (And.intro hC (And.intro hDs (And.intro hSM (And.intro hSH (And.intro hJ (And.intro hll (And.intro hsumb hL)))))))
  have HD := hide (And.intro hd (And.intro td (And.intro hlt hch)))
  clear hC hDs hSM hSH hJ hfl hc16 hsumb hd td hL hlt hch
  go_enter Tryz.func85, Tryz.ntmps85
  go_wp2_with (first
    | (go_at_call 77; refine (hk _).mono ?_; rintro e yy ⟨rfl, hy⟩; obtain rfl := hy.symm)
    | (go_at_call 113; refine hdig.mono ?_; rintro e w3 ⟨v3, rfl, o3, hb3⟩; obtain ⟨a3, c3, rfl, _, _, ho3⟩ := o3.row.opens hll)
    | fail)
  have r3 := o3.row
  go_loopw [10, 11] (fun vs vi wr => SmL w3 15 L vs vi wr) (fun _ vi _ => 64 - (intOf vi).toNat)
  case atStart => exact ⟨0, Nat.zero_le _, rfl, rfl, Below.refl _ _⟩
  case round =>
    obtain ⟨i, hi, rfl, rfl, hbr⟩ := hrel
    rename World => wr
    obtain ⟨hC, hDs, hSM, hSH, hJ, hll, hsumb, hL⟩ := HX.out
    obtain ⟨hd, td, hlt, hch⟩ := HD.out
    by_cases hin : i < 64
    · have hii : (i : Int) < 64 := by omega
      have z_i : (0 : Int) ≤ (i : Int) := Int.natCast_nonneg _
      obtain ⟨b3, f3, rfl, hc3⟩ := ho3 (by decide)
      have ci : wr.cell? ⟨b3, f3 + i, none⟩ = some (.int .u32 (el L i)) := keep_cell (hc3 i hin) hbr
      have hei := hlt i
      obtain ⟨X, hX⟩ : ∃ X : Nat, X = lackL 15 (L.take i) := ⟨_, rfl⟩
      have hXb : X ≤ 64 * 15 := by rw [hX]; exact hsumb i (by omega)
      rw [← hX]
      obtain ⟨D, hD⟩ : ∃ D : Nat, D = el L i := ⟨_, rfl⟩
      rw [← hD] at ci hei
      obtain ⟨Y, hY⟩ : ∃ Y : Nat, Y = X + 15 := ⟨_, rfl⟩
      obtain ⟨Z, hZ⟩ : ∃ Z : Nat, Z = Y - D := ⟨_, rfl⟩
      have e_Y : (X : Int) + 15 = (Y : Int) := by omega
      have s_Y : IntKind.u64.wrap (Y : Int) = (Y : Int) := by rw [IntKind.wrap_u64]; omega
      have e_Z : (Y : Int) - (D : Int) = (Z : Int) := by omega
      have s_Z : IntKind.u64.wrap (Z : Int) = (Z : Int) := by rw [IntKind.wrap_u64]; omega
      have u_D : IntKind.u64.wrap (D : Int) = (D : Int) := by rw [IntKind.wrap_u64]; omega
      obtain ⟨I, hI⟩ : ∃ I : Nat, I = i + 1 := ⟨_, rfl⟩
      have e_I : (i : Int) + 1 = (I : Int) := by omega
      have s_I : IntKind.i64.wrap (I : Int) = (I : Int) := by rw [IntKind.wrap_i64]; omega
      have HK := hide (And.intro hX (And.intro hD (And.intro hY (And.intro hZ (And.intro hI (And.intro hbr (And.intro hin hei)))))))
      clear hX hD hY hZ hI hbr hin hei hlt hch hC hDs hSM hSH hJ hsumb hL hXb hc3 ho3 o3 r3 hdig
      go_wp2
      go_quiet (fail)
      go_wp2
      obtain ⟨hX, hD, hY, hZ, hI, hbr, hin, hei⟩ := HK.out
      refine ⟨⟨i + 1, by omega, vint (by omega), ?_, Go.below_drewN hbr nq⟩, by simp [intOf]; omega⟩
      rw [lack_take (by omega), ← hX, ← hD]
      exact vint64 (by omega)
    · obtain rfl : i = 64 := by omega
      have ht : L.take 64 = L := List.take_of_length_le (by omega)
      rw [ht, ← hSM]
      have hbq := keep_trans hb3 hbr
      have hdr := hd.below hbq
      have HK := hide (And.intro hbq hbr)
      clear hC hDs hSM hSH hJ hsumb hL hlt hch hbr ht ho3 o3 r3 hdig hi
      go_wp2_with (first
        | (go_at_call 24; refine (h2 _).mono ?_; rintro e w4 ⟨v4, rfl, o4, hb4⟩; obtain ⟨a4, c4, rfl⟩ := o4.row.form; have hT := hjn _ _ (rows_litL (B := w4.heap.size) (k := 2) (texts_cons (hdr.below hb4) td (texts_cons o4.row o4.tidy (Texts.nil _))) rfl rfl (by decide)))
        | (go_at_call 31; refine hT.mono ?_; rintro e w5 ⟨v5, rfl, o5, hb5⟩; obtain ⟨a5, c5, rfl, _⟩ := o5.row.opens hJl)
        | (go_at_call 113; refine (hdg2 _ _ o5.row).mono ?_; rintro e w6 ⟨v6, rfl, o6, hb6⟩)
        | fail)
      go_ret2
      have hb46 := keep_trans (keep_trans hb4 (keep_alloc _ _)) hb5
      have hbw := keep_trans HK.out.1 hb46
      exact ⟨_, rfl, o6.mono hbw.size, keep_trans hbw hb6⟩
end Go.Proofs.YtogiballdmgcpaaGreatDoor
