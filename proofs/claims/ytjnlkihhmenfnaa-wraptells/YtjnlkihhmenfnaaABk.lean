/- The document's back. -/
import Derived.Test.YtjnlkihhmenfnaaATh
import Derived.Test.YtjnlkihhmenfnaaPlan
namespace Go.Proofs.Ytjnlkihhmenfnaa
open Go.RowKit
set_option linter.unusedVariables false
set_option linter.unusedSimpArgs false

theorem unT_under : Under 256 unT := fun x hx => by
  have : ∀ c, c < 256 → el unT c < 256 := fun c h => un_lt h
  obtain ⟨i, hi, rfl⟩ := List.getElem_of_mem hx
  rw [← el_at hi]
  exact this i (by rw [unT_len] at hi; exact hi)
def bklt : List Lt := [(0, some 35, [8]), (1, some 36, [35]), (0, some 37, [5]), (6, some 38, [36, 37]), (15, some 8, [38])]
theorem bkreg : Reg (opsA (cRA (cRA (cBA (cLA (cRA (cLpA (cBA (cRA (cLA (cRA (cRA (cRA (Try.f47.body.getD .skip)))))))))))))) bklt := ⟨by kernel_rfl, by kernel_rfl⟩
theorem bkis : (cRA (cRA (cBA (cLA (cRA (cLpA (cBA (cRA (cLA (cRA (cRA (cRA (Try.f47.body.getD .skip))))))))))))) = .region 9 (opsA (cRA (cRA (cBA (cLA (cRA (cLpA (cBA (cRA (cLA (cRA (cRA (cRA (Try.f47.body.getD .skip)))))))))))))) true := by kernel_rfl
theorem list43 : ∀ l : List Value, l.length = 43 → ∃ u0 u1 u2 u3 u4 u5 u6 u7 u8 u9 u10 u11 u12 u13 u14 u15 u16 u17 u18 u19 u20 u21 u22 u23 u24 u25 u26 u27 u28 u29 u30 u31 u32 u33 u34 u35 u36 u37 u38 u39 u40 u41 u42, l = u0 :: u1 :: u2 :: u3 :: u4 :: u5 :: u6 :: u7 :: u8 :: u9 :: u10 :: u11 :: u12 :: u13 :: u14 :: u15 :: u16 :: u17 :: u18 :: u19 :: u20 :: u21 :: u22 :: u23 :: u24 :: u25 :: u26 :: u27 :: u28 :: u29 :: u30 :: u31 :: u32 :: u33 :: u34 :: u35 :: u36 :: u37 :: u38 :: u39 :: u40 :: u41 :: u42 :: []
  | u0 :: u1 :: u2 :: u3 :: u4 :: u5 :: u6 :: u7 :: u8 :: u9 :: u10 :: u11 :: u12 :: u13 :: u14 :: u15 :: u16 :: u17 :: u18 :: u19 :: u20 :: u21 :: u22 :: u23 :: u24 :: u25 :: u26 :: u27 :: u28 :: u29 :: u30 :: u31 :: u32 :: u33 :: u34 :: u35 :: u36 :: u37 :: u38 :: u39 :: u40 :: u41 :: u42 :: [], _ => ⟨u0, u1, u2, u3, u4, u5, u6, u7, u8, u9, u10, u11, u12, u13, u14, u15, u16, u17, u18, u19, u20, u21, u22, u23, u24, u25, u26, u27, u28, u29, u30, u31, u32, u33, u34, u35, u36, u37, u38, u39, u40, u41, u42, rfl⟩
section
variable {Q : Exit → Act → World → Prop}
set_option maxRecDepth 100000 in
theorem bk_9 {g : Nat} {s : List Nat} {sv : Value} {a : Act} {x : World} (hs : B16 s)
    (hQ : ∀ (a' : Act) (y : World) (v : Value), Fr 43 35 38 8 a a' → a'.eval (.tmp 8) = v → Own 5 .u8 256 y x.heap.size v (eachL unT (rowsR s)) → Below x.heap.size x y → Q .normal a' y)
    (fz : Fz 43 a) (t5 : a.eval (.tmp 5) = .pointer (some ⟨g, 0, none⟩)) (t8 : a.eval (.tmp 8) = sv) (rs : Row .u8 256 x sv s) (hA : Lies .u8 66 x g unT) : Code.wp Try.prog (cRA (cRA (cBA (cLA (cRA (cLpA (cBA (cRA (cLA (cRA (cRA (cRA (Try.f47.body.getD .skip))))))))))))) Q a x := by
  rw [bkis]
  have F : Fr 43 35 38 8 a a := ⟨fz, fun _ _ _ => rfl⟩
  have s2 : (vals .u8 unT).length = 256 := by rw [vals_length, unT_len]
  have hbd : Below x.heap.size x x.drew := (Below.refl _ _).drew
  have hS := hA.below hbd
  have rs0 := rs.below hbd
  refine at_begin (n := 5) (fun y => Lies .u8 66 y g unT) (by kernel_rfl) (by kernel_rfl) ?_
  refine at_take (i := 0) (m' := 1) bkreg rfl (by decide) rfl (y_move rfl rfl t8) hS ?_
  refine F.step (kk := 35) rfl (by decide) (by decide) ?_
  intro a1 F1 s35 e1
  refine at_take (i := 2) (m' := 5) bkreg rfl (by decide) rfl (y_load_row (cs := vals .u8 unT) rfl rfl ((F1.keep 5 (by decide) (by decide)).trans t5) Try.underlying66 rfl (by rw [s2]; kernel_rfl) (fun _ h => lies_rangeA h)) hS ?_
  refine F1.step (kk := 37) rfl (by decide) (by decide) ?_
  intro a2 F2 s37 e2
  replace s35 := (e2 35 (by decide)).trans s35
  replace s37 : a2.eval (.tmp 37) = .agg (arr .u8 unT) := s37
  refine at_one (i := 1) (m' := 7) bkreg (by decide) rfl ?_
  refine p_call (args := #[sv, .int .i64 (-1)]) rfl rfl rfl (by simp only [List.map_toArray, List.map_cons, List.map_nil, s35]; rfl) Try.call64 ((rrows_any (-1) (Or.inr rfl) s sv _ hs rs0).mono ?_)
  rintro e x1 ⟨v1, rfl, o1, hb1⟩
  rw [← rowsR_w] at o1
  have hS1 := hS.below hb1
  refine ⟨_, rfl, hS1, ?_⟩
  refine F2.step (kk := 36) rfl (by decide) (by decide) ?_
  intro a3 F3 s36 e3
  replace s37 := (e3 37 (by decide)).trans s37
  refine at_one (i := 3) (m' := 15) bkreg (by decide) rfl ?_
  refine p_call (args := #[v1, .agg (arr .u8 unT)]) rfl rfl rfl (by simp only [List.map_toArray, List.map_cons, List.map_nil, s36, s37]) Try.call65 ((reach_any unT (rowsR s) v1 _ unT_len unT_under (rowsR_b hs) o1.row).mono ?_)
  rintro e x2 ⟨v2, rfl, o2, hb2⟩
  have hS2 := hS1.below hb2
  refine ⟨_, rfl, hS2, ?_⟩
  refine F3.step (kk := 38) rfl (by decide) (by decide) ?_
  intro a4 F4 s38 e4
  refine at_take (i := 4) (m' := 31) bkreg rfl (by decide) rfl (y_assignA rfl rfl s38) hS2 ?_
  refine F4.step (kk := 8) rfl (by decide) (by decide) ?_
  intro a5 F5 s8 e5
  have hb3 := keep_trans hbd hb1
  exact at_done bkreg (by decide) (hQ _ _ _ F5 s8 (o2.mono hb3.size) (keep_trans hb3 hb2))
end

/-- where the loop stands: k rounds still to go -/
def BkL (w w0 : World) (ws s : List Nat) (n : Nat) (v vr : Value) (wr : World) : Prop := ∃ (k : Nat) (S : List Nat), k ≤ n ∧ vr = .int .i64 (k : Int) ∧ B16 S ∧ bkN n ws k S = bkN n ws n s ∧ Row .u8 256 wr v S ∧ Below w0.heap.size w0 wr

set_option maxHeartbeats 4000000 in
set_option maxRecDepth 100000 in
theorem rbk_any (n : Nat) (ws s : List Nat) (wv sv : Value) (w : World) (hn : n ≤ 14) (hw : ws.length = 16 * (n + 1)) (hs : B16 s) (rw : Row .u8 256 w wv ws) (rs : Row .u8 256 w sv s) :
    Calls Try.prog 47 #[wv, sv, .agg (arr .u8 unT)] w fun e w' => ∃ v, e = .returned v ∧ Own 5 .u8 256 w' w.heap.size v (bkN n ws n s) ∧ Below w.heap.size w w' := by
  have hwu := rw.under
  have hA := Lies.new .u8 66 w unT
  have hb0 := keep_alloc w (.cells (arr .u8 unT) 66)
  have rw0 := rw.below hb0
  have rs0 := rs.below hb0
  obtain ⟨b, o, c, rfl, lc1, lc2, rk0⟩ := keyP_row (r := 0) rw0 hw (by omega)
  obtain ⟨N, hN⟩ : ∃ x : Nat, x = 16 * (n + 1) := ⟨_, rfl⟩
  rw [Nat.mul_zero, Nat.add_zero, Nat.sub_zero] at rk0
  have HN := hide hN
  have e_n : (N : Int) / 16 = ((n + 1 : Nat) : Int) := by omega
  have t_n : (N : Int).tdiv 16 = ((n + 1 : Nat) : Int) := by rw [Int.tdiv_eq_ediv_of_nonneg (by omega)]; exact e_n
  have e_m : ((n + 1 : Nat) : Int) - 1 = (n : Int) := by omega
  have s_n : IntKind.i64.wrap (((n + 1 : Nat) : Int)) = ((n + 1 : Nat) : Int) := by rw [IntKind.wrap_i64]; omega
  have s_m : IntKind.i64.wrap (n : Int) = (n : Int) := by rw [IntKind.wrap_i64]; omega
  have ci : (16 : Int) ≤ (c : Int) := by omega
  rw [← hN] at rw rw0 lc1 hw ⊢
  clear hN
  generalize hn1' : n + 1 = n1 at e_n t_n e_m s_n
  clear hn1'
  have H0 : Hid (BkL w (w.alloc (.cells (arr .u8 unT) 66)) ws s n sv (.int .i64 (n : Int)) (w.alloc (.cells (arr .u8 unT) 66))) := hide ⟨n, s, Nat.le_refl _, rfl, hs, rfl, rs0, Below.refl _ _⟩
  clear rs0 rs
  go_enter Try.func47, Try.ntmps47
  go_wp2
  go_loopw [8, 9] (fun v vr wr => BkL w (w.alloc (.cells (arr .u8 unT) 66)) ws s n v vr wr) (fun _ vr _ => (intOf vr).toNat)
  case atStart => exact H0.out
  case round =>
    obtain ⟨k, S, hk, rfl, bS, eS, rv, hbr⟩ := hrel
    clear H0
    have hbw := keep_trans hb0 hbr
    have hA1 := hA.below hbr
    have rw1 := rw0.below hbr
    obtain ⟨va, vc, rfl, lv1, lv2, _⟩ := rv.opens bS.1
    by_cases hlt : 1 ≤ k
    · obtain ⟨j, hj⟩ : ∃ x : Nat, k = x + 1 := ⟨k - 1, by omega⟩
      obtain ⟨_, _, _, he, _, _, rk⟩ := keyP_row (r := k) rw1 (by rw [hw]; exact HN.out) hk
      simp only [Value.slice.injEq, Option.some.injEq, Addr.mk.injEq] at he
      obtain ⟨⟨rfl, rfl, _⟩, hq, rfl⟩ := he
      clear hq
      have hsp : bkN n ws j (eachL unT (rowsR (if k < n then colsL 14 11 13 9 (keyAt ws k S) else keyAt ws k S))) = bkN n ws n s := by rw [← eS, hj]; rfl
      have HSP := hide hsp
      have HJ := hide hj
      have e_j : (k : Int) - 1 = (j : Int) := by omega
      have s_j : IntKind.i64.wrap (j : Int) = (j : Int) := by rw [IntKind.wrap_i64]; omega
      have lk1 : (1 : Int) ≤ (k : Int) := by omega
      obtain ⟨L, hL⟩ : ∃ x : Nat, x = 16 * k := ⟨_, rfl⟩
      obtain ⟨U, hU⟩ : ∃ x : Nat, x = L + 16 := ⟨_, rfl⟩
      have e_L : 16 * (k : Int) = (L : Int) := by omega
      have s_L : IntKind.i64.wrap (L : Int) = (L : Int) := by rw [IntKind.wrap_i64]; omega
      have e_U : (L : Int) + 16 = (U : Int) := by omega
      have s_U : IntKind.i64.wrap (U : Int) = (U : Int) := by rw [IntKind.wrap_i64]; omega
      have l_LU : (L : Int) ≤ (U : Int) := by omega
      have l_Uc : (U : Int) ≤ (c : Int) := by have := HN.out; omega
      have d_UL : U - L = 16 := by omega
      rw [← hL] at rk
      clear hsp eS hj
      have bk := keyAt_b (r := k) hwu bS
      by_cases hlast : k < n
      · have hlasti : (k : Int) < (n : Int) := by omega
        clear hL hU
        go_wp2_with (first
          | (go_at_call 63; refine (rxr_any _ _ _ _ _ rv rk (by rw [bS.1]; decide)).mono ?_; rintro e w2 ⟨v2, rfl, o2, hb2⟩; rw [xr_key bS.1 (by rw [hw]; exact HN.out) hk] at o2)
          | (go_at_call 66; refine (rcols_bk _ _ _ bk o2.row).mono ?_; rintro e w3 ⟨v3, rfl, o3, hb3⟩; have hb4 := keep_trans hb2 hb3; have bc : B16 (colsL 14 11 13 9 (keyAt ws k S)) := colsL_b (by decide) (by decide) (by decide) (by decide))
          | fail)
        refine bk_9 (g := w.heap.size) bc ?_ ⟨rfl, rfl⟩ rfl rfl o3.row (hA1.below hb4)
        rename_i Q' K hK
        intro a x v F t8 ov hb5
        obtain ⟨tm, df⟩ := a
        obtain ⟨⟨hsz, hdf⟩, kp⟩ := F
        dsimp only at hsz hdf
        subst hdf
        obtain ⟨ll⟩ := tm
        obtain ⟨u0, u1, u2, u3, u4, u5, u6, u7, u8, u9, u10, u11, u12, u13, u14, u15, u16, u17, u18, u19, u20, u21, u22, u23, u24, u25, u26, u27, u28, u29, u30, u31, u32, u33, u34, u35, u36, u37, u38, u39, u40, u41, u42, rfl⟩ := list43 ll (by simpa using hsz)
        have e0 : u0 = .slice (some ⟨b, o, none⟩) N c := kp 0 (by decide) (by decide)
        have e1 : u1 = sv := kp 1 (by decide) (by decide)
        have e2 : u2 = .agg (arr .u8 unT) := kp 2 (by decide) (by decide)
        have e3 : u3 = undef := kp 3 (by decide) (by decide)
        have e4 : u4 = undef := kp 4 (by decide) (by decide)
        have e5 : u5 = .pointer (some ⟨w.heap.size, 0, none⟩) := kp 5 (by decide) (by decide)
        have e6 : u6 = .slice none 0 0 := kp 6 (by decide) (by decide)
        have e7 : u7 = .int .i64 (n : Int) := kp 7 (by decide) (by decide)
        have e9 : u9 = .int .i64 (k : Int) := kp 9 (by decide) (by decide)
        have e10 : u10 = .slice (some ⟨b, o, none⟩) N c := kp 10 (by decide) (by decide)
        have e11 : u11 = .int .i64 (N : Int) := kp 11 (by decide) (by decide)
        have e12 : u12 = .int .i64 (n1 : Int) := kp 12 (by decide) (by decide)
        have e13 : u13 = .int .i64 (n : Int) := kp 13 (by decide) (by decide)
        have e14 : u14 = sv := kp 14 (by decide) (by decide)
        have e15 : u15 = .int .i64 (n : Int) := kp 15 (by decide) (by decide)
        have e39 : u39 = undef := kp 39 (by decide) (by decide)
        have e40 : u40 = undef := kp 40 (by decide) (by decide)
        have e41 : u41 = undef := kp 41 (by decide) (by decide)
        have e42 : u42 = undef := kp 42 (by decide) (by decide)
        have e8 : u8 = v := t8
        subst e0 e1 e2 e3 e4 e5 e6 e7 e9 e10 e11 e12 e13 e14 e15 e39 e40 e41 e42 e8
        clear t8 hsz kp
        refine hK _ _ ?_
        clear hK
        have OV := hide ov
        have HB5 := hide (keep_trans hb4 hb5)
        clear ov hb5
        go_wp2
        have hb6 := HB5.out
        have bE := eachL_b (fun c h => un_lt h) (rowsR_b bc)
        refine ⟨⟨j, _, by have := HJ.out; omega, by go_num, bE, ?_, OV.out.row, hbr.trans (hb6.mono hbr.size)⟩, by have := HJ.out; simp [intOf]; omega⟩
        rw [← HSP.out, if_pos hlast]
      · have hlasti : ¬ ((k : Int) < (n : Int)) := by omega
        clear hL hU
        go_wp2_with (first
          | (go_at_call 63; refine (rxr_any _ _ _ _ _ rv rk (by rw [bS.1]; decide)).mono ?_; rintro e w2 ⟨v2, rfl, o2, hb2⟩; rw [xr_key bS.1 (by rw [hw]; exact HN.out) hk] at o2)
          | fail)
        refine bk_9 (g := w.heap.size) bk ?_ ⟨rfl, rfl⟩ rfl rfl o2.row (hA1.below hb2)
        rename_i Q' K hK
        intro a x v F t8 ov hb5
        obtain ⟨tm, df⟩ := a
        obtain ⟨⟨hsz, hdf⟩, kp⟩ := F
        dsimp only at hsz hdf
        subst hdf
        obtain ⟨ll⟩ := tm
        obtain ⟨u0, u1, u2, u3, u4, u5, u6, u7, u8, u9, u10, u11, u12, u13, u14, u15, u16, u17, u18, u19, u20, u21, u22, u23, u24, u25, u26, u27, u28, u29, u30, u31, u32, u33, u34, u35, u36, u37, u38, u39, u40, u41, u42, rfl⟩ := list43 ll (by simpa using hsz)
        have e0 : u0 = .slice (some ⟨b, o, none⟩) N c := kp 0 (by decide) (by decide)
        have e1 : u1 = sv := kp 1 (by decide) (by decide)
        have e2 : u2 = .agg (arr .u8 unT) := kp 2 (by decide) (by decide)
        have e3 : u3 = undef := kp 3 (by decide) (by decide)
        have e4 : u4 = undef := kp 4 (by decide) (by decide)
        have e5 : u5 = .pointer (some ⟨w.heap.size, 0, none⟩) := kp 5 (by decide) (by decide)
        have e6 : u6 = .slice none 0 0 := kp 6 (by decide) (by decide)
        have e7 : u7 = .int .i64 (n : Int) := kp 7 (by decide) (by decide)
        have e9 : u9 = .int .i64 (k : Int) := kp 9 (by decide) (by decide)
        have e10 : u10 = .slice (some ⟨b, o, none⟩) N c := kp 10 (by decide) (by decide)
        have e11 : u11 = .int .i64 (N : Int) := kp 11 (by decide) (by decide)
        have e12 : u12 = .int .i64 (n1 : Int) := kp 12 (by decide) (by decide)
        have e13 : u13 = .int .i64 (n : Int) := kp 13 (by decide) (by decide)
        have e14 : u14 = sv := kp 14 (by decide) (by decide)
        have e15 : u15 = .int .i64 (n : Int) := kp 15 (by decide) (by decide)
        have e39 : u39 = undef := kp 39 (by decide) (by decide)
        have e40 : u40 = undef := kp 40 (by decide) (by decide)
        have e41 : u41 = undef := kp 41 (by decide) (by decide)
        have e42 : u42 = undef := kp 42 (by decide) (by decide)
        have e8 : u8 = v := t8
        subst e0 e1 e2 e3 e4 e5 e6 e7 e9 e10 e11 e12 e13 e14 e15 e39 e40 e41 e42 e8
        clear t8 hsz kp
        refine hK _ _ ?_
        clear hK
        have OV := hide ov
        have HB5 := hide (keep_trans hb2 hb5)
        clear ov hb5
        go_wp2
        have hb6 := HB5.out
        have bE := eachL_b (fun c h => un_lt h) (rowsR_b bk)
        refine ⟨⟨j, _, by have := HJ.out; omega, by go_num, bE, ?_, OV.out.row, hbr.trans (hb6.mono hbr.size)⟩, by have := HJ.out; simp [intOf]; omega⟩
        rw [← HSP.out, if_neg hlast]
    · obtain rfl : k = 0 := by omega
      have rkr := rk0.below hbr
      go_wp2_with (first
        | (go_at_call 63; refine (rxr_any _ _ _ _ _ rv rkr (by rw [bS.1]; decide)).mono ?_; rintro e w2 ⟨v2, rfl, o2, hb2⟩; rw [xr_key (r := 0) (n := n) bS.1 (by rw [hw]; exact HN.out) (by omega)] at o2)
        | fail)
      go_ret
      refine ⟨_, rfl, ?_, keep_trans hbw hb2⟩
      rw [← eS]
      exact o2.mono hbw.size
end Go.Proofs.Ytjnlkihhmenfnaa
