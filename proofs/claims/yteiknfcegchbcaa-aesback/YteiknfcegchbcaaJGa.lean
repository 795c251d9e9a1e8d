/- The code's words: RotateLeft32, turned, gathered, boxed. -/
import Derived.Test.YteiknfcegchbcaaABox
import Derived.BigRegion
import Derived.Test.YteiknfcegchbcaaBase
import Derived.Test.YteiknfcegchbcaaHKi2
namespace Go.Proofs.Yteiknfcegchbcaa
open Go.RowKit
set_option linter.unusedVariables false
set_option linter.unusedSimpArgs false

theorem or_int (x y : Nat) (hx : x < 4294967296) (hy : y < 4294967296) : bits .or .u32 (x : Int) (y : Int) = ((x ||| y : Nat) : Int) := u32_or_nat x y hx hy
theorem rot_int1 {a b c d : Nat} (ha : a < 256) (hb : b < 256) (hc : c < 256) (hd : d < 256) : bits .or .u32 ((wd a b c d : Nat) * 256 % 4294967296) ((wd a b c d : Nat) / 16777216 : Int) = ((wd b c d a : Nat) : Int) := by
  have h := wd_lt ha hb hc hd
  rw [← trn_1 ha hb hc hd]
  generalize wd a b c d = W at *
  have e1 : ((W : Int) * 256 % 4294967296) = ((W * 256 % 4294967296 : Nat) : Int) := by simp
  have e2 : ((W : Int) / 16777216) = ((W / 16777216 : Nat) : Int) := by simp
  rw [e1, e2, or_int _ _ (Nat.mod_lt _ (by decide)) (by omega)]
set_option maxHeartbeats 2000000 in
set_option maxRecDepth 100000 in
theorem rotl_1 {a b c d : Nat} (ha : a < 256) (hb : b < 256) (hc : c < 256) (hd : d < 256) (w : World) : Calls Try.prog 61 #[.int .u32 (wd a b c d : Nat), .int .i64 8] w fun e w' => e = .returned (.int .u32 (wd b c d a : Nat)) ∧ w' = w := by
  have h := wd_lt ha hb hc hd
  have HR := hide (rot_int1 ha hb hc hd)
  have fk : bits .and .u64 8 31 = 8 := by decide
  generalize wd a b c d = W at *
  have hi : (W : Int) < 4294967296 := by omega
  go_enter Try.func61, Try.ntmps61
  go_wp2
  go_ret
  exact ⟨ret_int HR.out, rfl⟩
set_option maxHeartbeats 2000000 in
set_option maxRecDepth 100000 in
theorem turned_1 {a b c d : Nat} (ha : a < 256) (hb : b < 256) (hc : c < 256) (hd : d < 256) (w : World) : Calls Try.prog 44 #[.int .u32 (wd a b c d : Nat), .int .i64 1] w fun e w' => e = .returned (.int .u32 (wd b c d a : Nat)) ∧ w' = w := by
  have h := wd_lt ha hb hc hd
  have hr := fun y => rotl_1 ha hb hc hd y
  generalize wd a b c d = W at *
  generalize wd b c d a = V at *
  go_enter Try.func44, Try.ntmps44
  go_wp2_with fail
  refine (hr _).mono ?_
  rintro e y ⟨rfl, hy⟩
  obtain rfl := hy.symm
  go_wp2
  go_ret
  exact ⟨rfl, rfl⟩
theorem rot_int2 {a b c d : Nat} (ha : a < 256) (hb : b < 256) (hc : c < 256) (hd : d < 256) : bits .or .u32 ((wd a b c d : Nat) * 65536 % 4294967296) ((wd a b c d : Nat) / 65536 : Int) = ((wd c d a b : Nat) : Int) := by
  have h := wd_lt ha hb hc hd
  rw [← trn_2 ha hb hc hd]
  generalize wd a b c d = W at *
  have e1 : ((W : Int) * 65536 % 4294967296) = ((W * 65536 % 4294967296 : Nat) : Int) := by simp
  have e2 : ((W : Int) / 65536) = ((W / 65536 : Nat) : Int) := by simp
  rw [e1, e2, or_int _ _ (Nat.mod_lt _ (by decide)) (by omega)]
set_option maxHeartbeats 2000000 in
set_option maxRecDepth 100000 in
theorem rotl_2 {a b c d : Nat} (ha : a < 256) (hb : b < 256) (hc : c < 256) (hd : d < 256) (w : World) : Calls Try.prog 61 #[.int .u32 (wd a b c d : Nat), .int .i64 16] w fun e w' => e = .returned (.int .u32 (wd c d a b : Nat)) ∧ w' = w := by
  have h := wd_lt ha hb hc hd
  have HR := hide (rot_int2 ha hb hc hd)
  have fk : bits .and .u64 16 31 = 16 := by decide
  generalize wd a b c d = W at *
  have hi : (W : Int) < 4294967296 := by omega
  go_enter Try.func61, Try.ntmps61
  go_wp2
  go_ret
  exact ⟨ret_int HR.out, rfl⟩
set_option maxHeartbeats 2000000 in
set_option maxRecDepth 100000 in
theorem turned_2 {a b c d : Nat} (ha : a < 256) (hb : b < 256) (hc : c < 256) (hd : d < 256) (w : World) : Calls Try.prog 44 #[.int .u32 (wd a b c d : Nat), .int .i64 2] w fun e w' => e = .returned (.int .u32 (wd c d a b : Nat)) ∧ w' = w := by
  have h := wd_lt ha hb hc hd
  have hr := fun y => rotl_2 ha hb hc hd y
  generalize wd a b c d = W at *
  generalize wd c d a b = V at *
  go_enter Try.func44, Try.ntmps44
  go_wp2_with fail
  refine (hr _).mono ?_
  rintro e y ⟨rfl, hy⟩
  obtain rfl := hy.symm
  go_wp2
  go_ret
  exact ⟨rfl, rfl⟩
theorem rot_int3 {a b c d : Nat} (ha : a < 256) (hb : b < 256) (hc : c < 256) (hd : d < 256) : bits .or .u32 ((wd a b c d : Nat) * 16777216 % 4294967296) ((wd a b c d : Nat) / 256 : Int) = ((wd d a b c : Nat) : Int) := by
  have h := wd_lt ha hb hc hd
  rw [← trn_3 ha hb hc hd]
  generalize wd a b c d = W at *
  have e1 : ((W : Int) * 16777216 % 4294967296) = ((W * 16777216 % 4294967296 : Nat) : Int) := by simp
  have e2 : ((W : Int) / 256) = ((W / 256 : Nat) : Int) := by simp
  rw [e1, e2, or_int _ _ (Nat.mod_lt _ (by decide)) (by omega)]
set_option maxHeartbeats 2000000 in
set_option maxRecDepth 100000 in
theorem rotl_3 {a b c d : Nat} (ha : a < 256) (hb : b < 256) (hc : c < 256) (hd : d < 256) (w : World) : Calls Try.prog 61 #[.int .u32 (wd a b c d : Nat), .int .i64 24] w fun e w' => e = .returned (.int .u32 (wd d a b c : Nat)) ∧ w' = w := by
  have h := wd_lt ha hb hc hd
  have HR := hide (rot_int3 ha hb hc hd)
  have fk : bits .and .u64 24 31 = 24 := by decide
  generalize wd a b c d = W at *
  have hi : (W : Int) < 4294967296 := by omega
  go_enter Try.func61, Try.ntmps61
  go_wp2
  go_ret
  exact ⟨ret_int HR.out, rfl⟩
set_option maxHeartbeats 2000000 in
set_option maxRecDepth 100000 in
theorem turned_3 {a b c d : Nat} (ha : a < 256) (hb : b < 256) (hc : c < 256) (hd : d < 256) (w : World) : Calls Try.prog 44 #[.int .u32 (wd a b c d : Nat), .int .i64 3] w fun e w' => e = .returned (.int .u32 (wd d a b c : Nat)) ∧ w' = w := by
  have h := wd_lt ha hb hc hd
  have hr := fun y => rotl_3 ha hb hc hd y
  generalize wd a b c d = W at *
  generalize wd d a b c = V at *
  go_enter Try.func44, Try.ntmps44
  go_wp2_with fail
  refine (hr _).mono ?_
  rintro e y ⟨rfl, hy⟩
  obtain rfl := hy.symm
  go_wp2
  go_ret
  exact ⟨rfl, rfl⟩
theorem gat_int {a b c d : Nat} (ha : a < 256) (hb : b < 256) (hc : c < 256) (hd : d < 256) : bits .or .u32 (bits .or .u32 (bits .or .u32 ((a : Int) * 16777216) ((b : Int) * 65536)) ((c : Int) * 256)) (d : Int) = ((wd a b c d : Nat) : Int) := by
  rw [← wd_gather ha hb hc hd]
  have e1 : (a : Int) * 16777216 = ((a * 16777216 : Nat) : Int) := by simp
  have e2 : (b : Int) * 65536 = ((b * 65536 : Nat) : Int) := by simp
  have e3 : (c : Int) * 256 = ((c * 256 : Nat) : Int) := by simp
  have o : ∀ x y : Nat, x < 4294967296 → y < 4294967296 → x ||| y < 4294967296 := fun x y hx hy => Nat.or_lt_two_pow (n := 32) hx hy
  rw [e1, e2, e3, or_int _ _ (by omega) (by omega), or_int _ _ (o _ _ (by omega) (by omega)) (by omega), or_int _ _ (o _ _ (o _ _ (by omega) (by omega)) (by omega)) (by omega)]
/-- a table of 256 bytes lies from a place on -/
def Tab (w : World) (g o : Nat) (T : List Nat) : Prop := ∀ c, c < 256 → w.cell? ⟨g, o + c, none⟩ = some (.int .u8 (el T c))
theorem Tab.below {w w' : World} {g o : Nat} {T : List Nat} (h : Tab w g o T) (hb : Below w.heap.size w w') : Tab w' g o T := fun c hc => keep_cell (h c hc) hb
theorem Tab.but {w w' : World} {g o q : Nat} {T : List Nat} (h : Tab w g o T) (hb : But q w w') (hn : g ≠ q) : Tab w' g o T := fun c hc => But.cell (h c hc) hb hn
set_option maxHeartbeats 4000000 in
set_option maxRecDepth 100000 in
theorem gath_any (g o : Nat) (T : List Nat) (W0 W1 W2 W3 a b c d : Nat) (hT : Under 256 T) (l0 : W0 < 4294967296) (l1 : W1 < 4294967296) (l2 : W2 < 4294967296) (l3 : W3 < 4294967296) (h0 : W0 / 16777216 = a) (h1 : W1 / 65536 % 256 = b) (h2 : W2 / 256 % 256 = c) (h3 : W3 % 256 = d) (w : World) (hw : Tab w g o T) :
    Calls Try.prog 60 #[.pointer (some ⟨g, o, none⟩), .int .u32 (W0 : Int), .int .u32 (W1 : Int), .int .u32 (W2 : Int), .int .u32 (W3 : Int)] w fun e w' => e = .returned (.int .u32 (wd (el T a) (el T b) (el T c) (el T d) : Nat)) ∧ Below w.heap.size w w' := by
  have ha : a < 256 := by omega
  have hb : b < 256 := by omega
  have hc : c < 256 := by omega
  have hd : d < 256 := by omega
  have e0 : (W0 : Int) / 16777216 = (a : Int) := by omega
  have s1 : IntKind.u8.wrap ((W1 : Int) / 65536) = (b : Int) := by rw [IntKind.wrap_u8]; omega
  have s2 : IntKind.u8.wrap ((W2 : Int) / 256) = (c : Int) := by rw [IntKind.wrap_u8]; omega
  have s3 : IntKind.u8.wrap (W3 : Int) = (d : Int) := by rw [IntKind.wrap_u8]; omega
  have m1 : (W1 : Int) / 65536 % 256 = (b : Int) := by omega
  have m2 : (W2 : Int) / 256 % 256 = (c : Int) := by omega
  have m3 : (W3 : Int) % 256 = (d : Int) := by omega
  have c0 := hw a ha
  have c1 := hw b hb
  have c2 := hw c hc
  have c3 := hw d hd
  have t0 := el_lt hT (by decide) a
  have t1 := el_lt hT (by decide) b
  have t2 := el_lt hT (by decide) c
  have t3 := el_lt hT (by decide) d
  have HG := hide (gat_int t0 t1 t2 t3)
  generalize el T a = A at *
  generalize el T b = B at *
  generalize el T c = C at *
  generalize el T d = D at *
  have ai : (a : Int) < 256 := by omega
  have bi : (b : Int) < 256 := by omega
  have ci : (c : Int) < 256 := by omega
  have di : (d : Int) < 256 := by omega
  clear h0 h1 h2 h3 hw
  go_enter Try.func60, Try.ntmps60
  go_wp2
  go_quiet (fail)
  go_wp2
  go_ret
  exact ⟨ret_int HG.out, below_drewN (Below.refl _ _) _⟩
end Go.Proofs.Yteiknfcegchbcaa

/- The code's blocks of four words: xored; the cipher's block in memory; keyed. -/
namespace Go.Proofs.Yteiknfcegchbcaa
open Go.RowKit
set_option linter.unusedVariables false
set_option linter.unusedSimpArgs false

theorem zero4 : ∀ w, (zeroValue 40).run Try.prog w = .ok (.agg (arr .u32 (zA 4))) w := zero_arr (by kernel_rfl)
theorem xor_32 (x y : Nat) (hx : x < 4294967296) (hy : y < 4294967296) : bits .xor .u32 (x : Int) (y : Int) = ((x ^^^ y : Nat) : Int) := u32_xor_nat x y hx hy
theorem ix4 (l : List Nat) (hl : l.length = 4) (i : Nat) (hi : i < 4) (w : World) : (Instr.index 40 (.agg (arr .u32 l)) (.int .i64 (i : Int))).run Try.prog w = .ok (.int .u32 (el l i)) w := index_arr 40 38 4 .u32 l Try.underlying40 Try.underlying38 (by kernel_rfl) hl i hi w
/-- two blocks xored -/
def xr16 (a b : List Nat) : List Nat := of16 fun i => el a i ^^^ el b i
theorem xr16_b {a b : List Nat} (ha : B16 a) (hb : B16 b) : B16 (xr16 a b) := of16_b fun i _ => xor_8 (ha.el _) (hb.el _)
set_option maxHeartbeats 4000000 in
set_option maxRecDepth 100000 in
theorem cxor_any (a b : List Nat) (w : World) (ha : B16 a) (hb : B16 b) :
    Calls Try.prog 36 #[.agg (arr .u32 (sw a)), .agg (arr .u32 (sw b))] w fun e w' => e = .returned (.agg (arr .u32 (sw (xr16 a b)))) ∧ Below w.heap.size w w' := by
  have hz := zero4
  have L0 := ((Lies.new .u32 40 w (sw a)).alloc (.cells (arr .u32 (sw b)) 40)).alloc (.cells (arr .u32 (zA 4)) 40)
  have L1 := (Lies.new .u32 40 (w.alloc (.cells (arr .u32 (sw a)) 40)) (sw b)).alloc (.cells (arr .u32 (zA 4)) 40)
  have L2 := Lies.new .u32 40 ((w.alloc (.cells (arr .u32 (sw a)) 40)).alloc (.cells (arr .u32 (sw b)) 40)) (zA 4)
  have hb0 := keep_trans (keep_trans (keep_alloc w (.cells (arr .u32 (sw a)) 40)) (keep_alloc _ (.cells (arr .u32 (sw b)) 40))) (keep_alloc _ (.cells (arr .u32 (zA 4)) 40))
  simp only [World.size_alloc, Nat.add_assoc, Nat.reduceAdd] at L1 L2
  have eA := fun k => sw_el a (c := k)
  have eB := fun k => sw_el b (c := k)
  have uA := col_lt ha.2
  have uB := col_lt hb.2
  have lA := sw_len a
  have lB := sw_len b
  have hfin : upd (fun i => col a i ^^^ col b i) (sw a) 4 = sw (xr16 a b) := upd_sw rfl fun i hi => col_xr ha.2 hb.2 hi
  have HE := hide (And.intro eA (And.intro eB (And.intro uA (And.intro uB (And.intro lA (And.intro lB hfin))))))
  clear eA eB uA uB lA lB hfin
  generalize sw a = A at *
  generalize sw b = B at *
  go_enter Try.func36, Try.ntmps36
  go_wp2
  clear hz
  generalize ((w.alloc (.cells (arr .u32 A) 40)).alloc (.cells (arr .u32 B) 40)).alloc (.cells (arr .u32 (zA 4)) 40) = x1 at *
  go_loopw [6] (fun i wr => ∃ n : Nat, n ≤ 4 ∧ i = .int .i64 n ∧ Lies .u32 40 wr w.heap.size (upd (fun i => col a i ^^^ col b i) A n) ∧ But w.heap.size x1 wr) (fun i _ => 4 - (intOf i).toNat)
  case atStart => exact ⟨0, Nat.zero_le _, rfl, L0, But.refl _ _⟩
  case round =>
    obtain ⟨n, hn, rfl, hA, hB⟩ := hrel
    have h1 := L1.but hB (by omega)
    have h2 := L2.but hB (by omega)
    by_cases hlt : n < 4
    · obtain ⟨eA, eB, uA, uB, lA, lB, _⟩ := HE.out
      have hst : ∀ y, Lies .u32 40 y w.heap.size (upd (fun i => col a i ^^^ col b i) A n) → Lies .u32 40 (y.setCell ⟨w.heap.size, n, none⟩ (.int .u32 (bits .xor .u32 (col a n : Int) (col b n : Int)))) w.heap.size (upd (fun i => col a i ^^^ col b i) A (n + 1)) := fun y hy => by
        rw [xor_32 _ _ (uA n) (uB n)]
        exact hy.set n _
      have c1 := hA.cell (i := n) (by rw [upd_len, lA]; exact hlt)
      rw [upd_same _ _ (by omega) (Nat.le_refl _), eA n hlt] at c1
      have f1 := hA.frozen n
      have c2 := h1.cell (i := n) (by rw [lB]; exact hlt)
      rw [eB n hlt] at c2
      have i0 : (0 : Int) ≤ (n : Int) := Int.natCast_nonneg _
      have i1 : (n : Int) < 4 := by omega
      have HST := hide hst
      clear hst eA eB uA uB lA lB
      generalize col a n = p at *
      generalize col b n = q at *
      go_wp2
      go_region
      go_wp2
      exact ⟨⟨n + 1, by omega, by go_num, HST.out _ hA, (hB.setCell n _).drew⟩, by simp [intOf]; omega⟩
    · obtain rfl : n = 4 := by omega
      obtain ⟨_, _, _, _, lA, lB, hfin⟩ := HE.out
      rw [hfin] at hA
      have hsl : (sw (xr16 a b)).length = 4 := rfl
      have hbr := hb0.trans (hB.below (by omega) hb0.size)
      generalize hX : sw (xr16 a b) = X at hA hsl
      have HX := hide hX
      clear hX hfin
      have hOf : Lies .u32 40 (wr.setRow (w.heap.size + 2) (arr .u32 X)) (w.heap.size + 2) X := h2.row
      have hbf := hbr.trans ((But.setRow (But.refl (w.heap.size + 2) _) (arr .u32 X)).below (by omega) hbr.size)
      go_wp2_with (first
        | (refine wpList_load_row rfl 40 _ (by rfl) w.heap.size (by rfl) _ _ _ (.array 4 38) hA (by kernel_rfl) rfl (by rw [arr_size, hsl]; kernel_rfl) ?_)
        | (refine wpList_store_row rfl 40 _ _ (by rfl) (w.heap.size + 2) (arr .u32 X) (by rfl) (by rfl) _ _ h2 (by rw [arr_size, hsl]; kernel_rfl) (by rw [arr_size, arr_size, hsl, zA_len]) (arr_one _ _) ?_)
        | fail)
      refine bodyPost_ret (v := .agg (arr .u32 X)) ?_ rfl ⟨by rw [HX.out], hbf⟩
      exact results_cell_row Try.results36 _ _ (w.heap.size + 2) _ _ _ (.array 4 38) (by rfl) hOf (by kernel_rfl) rfl (by rw [arr_size, hsl]; kernel_rfl)
/-- a cipher's cells -/
def cl (n : Nat) (ws T : List Nat) : List Value := .int .i64 (n : Int) :: (vals .u32 ws ++ vals .u8 T)
/-- a cipher lies in block g -/
structure Cph (w : World) (g n : Nat) (ws T : List Nat) : Prop where
  here : w.heap[g]? = some (.cells (cl n ws T).toArray 66 (0, 0))
  lw : ws.length = 60
  lt : T.length = 256
theorem Cph.old {w : World} {g n : Nat} {ws T : List Nat} (h : Cph w g n ws T) : g < w.heap.size := by
  rcases Nat.lt_or_ge g w.heap.size with hlt | hge
  · exact hlt
  · have := h.here
    rw [Array.getElem?_eq_none hge] at this; cases this
theorem Cph.below {w w' : World} {g n : Nat} {ws T : List Nat} (h : Cph w g n ws T) (hb : Below w.heap.size w w') : Cph w' g n ws T := ⟨(hb.block g h.old).trans h.here, h.lw, h.lt⟩
theorem Cph.but {w w' : World} {g n q : Nat} {ws T : List Nat} (h : Cph w g n ws T) (hb : But q w w') (hn : g ≠ q) : Cph w' g n ws T := ⟨(hb.block g h.old hn).trans h.here, h.lw, h.lt⟩
theorem Cph.rounds {w : World} {g n : Nat} {ws T : List Nat} (h : Cph w g n ws T) : w.cell? ⟨g, 0, none⟩ = some (.int .i64 (n : Int)) := by rw [cell_of_row w g 0 _ _ (0, 0) h.here]; rfl
theorem Cph.word {w : World} {g n : Nat} {ws T : List Nat} (h : Cph w g n ws T) {i : Nat} (hi : i < 60) : w.cell? ⟨g, 1 + i, none⟩ = some (.int .u32 (el ws i)) := by
  rw [cell_of_row w g (1 + i) _ _ (0, 0) h.here, List.getElem?_toArray, cl, Nat.add_comm, List.getElem?_cons_succ, List.getElem?_append_left (by rw [vals_length, h.lw]; exact hi), vals_get _ _ _ (by rw [h.lw]; exact hi)]
theorem Cph.tab {w : World} {g n : Nat} {ws T : List Nat} (h : Cph w g n ws T) : Tab w g 61 T := fun c hc => by
  rw [cell_of_row w g (61 + c) _ _ (0, 0) h.here, List.getElem?_toArray, cl, show 61 + c = (60 + c) + 1 by omega, List.getElem?_cons_succ, List.getElem?_append_right (by rw [vals_length, h.lw]; omega), vals_length, h.lw, show 60 + c - 60 = c by omega, vals_get _ _ _ (by rw [h.lt]; exact hc)]
theorem Cph.frozen {w : World} {g n : Nat} {ws T : List Nat} (h : Cph w g n ws T) (i : Nat) : w.frozen? ⟨g, i, none⟩ = false := by simp [World.frozen?, h.here]
theorem cl_set (n : Nat) (ws T : List Nat) (i x : Nat) (hi : i < ws.length) : (cl n ws T).set (1 + i) (.int .u32 (x : Int)) = cl n (ws.set i x) T := by
  unfold cl
  rw [Nat.add_comm, List.set_cons_succ, List.set_append_left _ _ (by rw [vals_length]; exact hi), vals_set]
theorem Cph.set {w : World} {g n : Nat} {ws T : List Nat} (h : Cph w g n ws T) {i : Nat} (x : Nat) (hi : i < 60) : Cph (w.setCell ⟨g, 1 + i, none⟩ (.int .u32 (x : Int))) g n (ws.set i x) T := by
  refine ⟨?_, by rw [List.length_set]; exact h.lw, h.lt⟩
  rw [setCell_eq_setRow w g (1 + i) _ _ (0, 0) _ h.here]
  have e : (cl n ws T).toArray.setIfInBounds (1 + i) (.int .u32 (x : Int)) = (cl n (ws.set i x) T).toArray := by
    rw [← cl_set n ws T i x (by rw [h.lw]; exact hi)]
    simp
  rw [e]
  exact setRow_heap w g _ _ _ _ h.here
/-- the words of round keys, as bytes tell them -/
def Kws (ks ws : List Nat) : Prop := ∀ i, 4 * i < ks.length → el ws i = col ks i
set_option maxHeartbeats 4000000 in
set_option maxRecDepth 100000 in
theorem keyed_any (g N r : Nat) (ws T ks s : List Nat) (w : World) (hC : Cph w g N ws T) (hK : Kws ks ws) (hku : Under 256 ks) (hr : 16 * r + 16 ≤ ks.length) (hr2 : r ≤ 14) (hs : B16 s) :
    Calls Try.prog 45 #[.pointer (some ⟨g, 0, none⟩), .agg (arr .u32 (sw s)), .int .i64 (r : Int)] w fun e w' => e = .returned (.agg (arr .u32 (sw (keyAt ks r s)))) ∧ Below w.heap.size w w' := by
  have hz := zero4
  have L0 := (Lies.new .u32 40 w (sw s)).alloc (.cells (arr .u32 (zA 4)) 40)
  have L2 := Lies.new .u32 40 (w.alloc (.cells (arr .u32 (sw s)) 40)) (zA 4)
  have hb0 := keep_trans (keep_alloc w (.cells (arr .u32 (sw s)) 40)) (keep_alloc _ (.cells (arr .u32 (zA 4)) 40))
  simp only [World.size_alloc, Nat.add_assoc, Nat.reduceAdd] at L2
  have go := hC.old
  have C0 := hC.below hb0
  have eA := fun k => sw_el s (c := k)
  have uA := col_lt hs.2
  have lA := sw_len s
  have hw4 : ∀ i, i < 4 → el ws (4 * r + i) = col ks (4 * r + i) := fun i hi => hK (4 * r + i) (by omega)
  have uK := col_lt hku
  have hfin : upd (fun i => col s i ^^^ col ks (4 * r + i)) (sw s) 4 = sw (keyAt ks r s) := upd_sw rfl fun i hi => by
    have := col_key (r := r) hku hs.2 hi
    rw [← this]
    show _ ^^^ col ks (4 * r + i) = _
    unfold col
    rw [show 4 * (4 * r + i) = 16 * r + 4 * i by omega]
  have HE := hide (And.intro eA (And.intro uA (And.intro lA (And.intro hw4 (And.intro uK hfin)))))
  clear eA uA lA hw4 uK hfin hK
  generalize sw s = A at *
  go_enter Try.func45, Try.ntmps45
  go_wp2
  clear hz
  generalize (w.alloc (.cells (arr .u32 A) 40)).alloc (.cells (arr .u32 (zA 4)) 40) = x1 at *
  go_loopw [8] (fun i wr => ∃ n : Nat, n ≤ 4 ∧ i = .int .i64 n ∧ Lies .u32 40 wr w.heap.size (upd (fun i => col s i ^^^ col ks (4 * r + i)) A n) ∧ But w.heap.size x1 wr) (fun i _ => 4 - (intOf i).toNat)
  case atStart => exact ⟨0, Nat.zero_le _, rfl, L0, But.refl _ _⟩
  case round =>
    obtain ⟨n, hn, rfl, hA, hB⟩ := hrel
    have h2 := L2.but hB (by omega)
    have C1 := C0.but hB (by omega)
    by_cases hlt : n < 4
    · obtain ⟨eA, uA, lA, hw4, uK, _⟩ := HE.out
      obtain ⟨r4, hr4⟩ : ∃ x : Nat, x = 4 * r := ⟨_, rfl⟩
      obtain ⟨ix, hix⟩ : ∃ x : Nat, x = r4 + n := ⟨_, rfl⟩
      have hst : ∀ y, Lies .u32 40 y w.heap.size (upd (fun i => col s i ^^^ col ks (4 * r + i)) A n) → Lies .u32 40 (y.setCell ⟨w.heap.size, n, none⟩ (.int .u32 (bits .xor .u32 (col s n : Int) (col ks ix : Int)))) w.heap.size (upd (fun i => col s i ^^^ col ks (4 * r + i)) A (n + 1)) := fun y hy => by
        rw [xor_32 _ _ (uA n) (uK ix), hix, hr4]
        exact hy.set n _
      have c1 := hA.cell (i := n) (by rw [upd_len, lA]; exact hlt)
      rw [upd_same _ _ (by omega) (Nat.le_refl _), eA n hlt] at c1
      have f1 := hA.frozen n
      have c2 := C1.word (i := ix) (by omega)
      rw [show el ws ix = col ks ix by rw [hix, hr4]; exact hw4 n hlt] at c2
      have e_r : 4 * (r : Int) = (r4 : Int) := by omega
      have s_r : IntKind.i64.wrap (r4 : Int) = (r4 : Int) := by rw [IntKind.wrap_i64]; omega
      have e_x : (r4 : Int) + (n : Int) = (ix : Int) := by omega
      have s_x : IntKind.i64.wrap (ix : Int) = (ix : Int) := by rw [IntKind.wrap_i64]; omega
      have i0 : (0 : Int) ≤ (n : Int) := Int.natCast_nonneg _
      have i1 : (n : Int) < 4 := by omega
      have i2 : (0 : Int) ≤ (ix : Int) := Int.natCast_nonneg _
      have i3 : (ix : Int) < 60 := by omega
      have HST := hide hst
      clear hst eA uA lA hw4 uK hr4 hix
      generalize col s n = p at *
      generalize col ks ix = q at *
      go_wp2
      go_region
      go_wp2
      exact ⟨⟨n + 1, by omega, by go_num, HST.out _ hA, (hB.setCell n _).drew⟩, by simp [intOf]; omega⟩
    · obtain rfl : n = 4 := by omega
      obtain ⟨_, _, lA, _, _, hfin⟩ := HE.out
      rw [hfin] at hA
      have hsl : (sw (keyAt ks r s)).length = 4 := rfl
      have hbr := hb0.trans (hB.below (by omega) hb0.size)
      generalize hX : sw (keyAt ks r s) = X at hA hsl
      have HX := hide hX
      clear hX hfin
      have hOf : Lies .u32 40 (wr.setRow (w.heap.size + 1) (arr .u32 X)) (w.heap.size + 1) X := h2.row
      have hbf := hbr.trans ((But.setRow (But.refl (w.heap.size + 1) _) (arr .u32 X)).below (by omega) hbr.size)
      go_wp2_with (first
        | (refine wpList_load_row rfl 40 _ (by rfl) w.heap.size (by rfl) _ _ _ (.array 4 38) hA (by kernel_rfl) rfl (by rw [arr_size, hsl]; kernel_rfl) ?_)
        | (refine wpList_store_row rfl 40 _ _ (by rfl) (w.heap.size + 1) (arr .u32 X) (by rfl) (by rfl) _ _ h2 (by rw [arr_size, hsl]; kernel_rfl) (by rw [arr_size, arr_size, hsl, zA_len]) (arr_one _ _) ?_)
        | fail)
      refine bodyPost_ret (v := .agg (arr .u32 X)) ?_ rfl ⟨by rw [HX.out], hbf⟩
      exact results_cell_row Try.results45 _ _ (w.heap.size + 1) _ _ _ (.array 4 38) (by rfl) hOf (by kernel_rfl) rfl (by rw [arr_size, hsl]; kernel_rfl)
end Go.Proofs.Yteiknfcegchbcaa

/- A slice of texts, and what it reads as. -/
namespace Go.Proofs.Yteiknfcegchbcaa
open Go.RowKit
set_option linter.unusedVariables false

/-- the text at a place of a list of texts -/
def tx (ls : List (List Nat)) (i : Nat) : List Nat := ls[i]?.getD []

/-- a slice without an address is nil -/
def Tidy (v : Value) : Prop := ∀ n c, v = .slice none n c → n = 0 ∧ c = 0

/-- v is a slice of texts, which are ls -/
def Rows2 (w : World) (v : Value) (ls : List (List Nat)) : Prop :=
  ∃ a cap, v = .slice a ls.length cap ∧ ls.length ≤ cap ∧ cap ≤ maxLen ∧
    (0 < ls.length → ∃ b off, a = some ⟨b, off, none⟩ ∧ ∀ i, i < ls.length → ∃ u, w.cell? ⟨b, off + i, none⟩ = some u ∧ Row .u8 256 w u (tx ls i) ∧ Tidy u)

theorem Rows2.below {w w' : World} {v : Value} {ls : List (List Nat)} (h : Rows2 w v ls) (hb : Below w.heap.size w w') : Rows2 w' v ls := by
  obtain ⟨a, cap, rfl, h1, h2, h3⟩ := h
  refine ⟨a, cap, rfl, h1, h2, fun hl => ?_⟩
  obtain ⟨b, off, rfl, hc⟩ := h3 hl
  refine ⟨b, off, rfl, fun i hi => ?_⟩
  obtain ⟨u, hu, hr, ht⟩ := hc i hi
  have h5 := World.block_lt_of_cell? w _ hu
  exact ⟨u, by rw [hb.cell (p := ⟨b, off + i, none⟩) h5]; exact hu, hr.below hb, ht⟩

/-- how many bytes the first texts have -/
def sumL (ls : List (List Nat)) : Nat := ls.flatten.length

theorem take_tx {ls : List (List Nat)} {k : Nat} (h : k < ls.length) : ls.take (k + 1) = ls.take k ++ [tx ls k] := by
  rw [List.take_succ_eq_append_getElem h]; unfold tx; rw [List.getElem?_eq_getElem h]; rfl
theorem flat_succ {ls : List (List Nat)} {k : Nat} (h : k < ls.length) : (ls.take (k + 1)).flatten = (ls.take k).flatten ++ tx ls k := by
  rw [take_tx h]; simp
theorem flat_le (ls : List (List Nat)) (k : Nat) : (ls.take k).flatten.length ≤ ls.flatten.length := by
  have : ls.flatten = (ls.take k).flatten ++ (ls.drop k).flatten := by rw [← List.flatten_append, List.take_append_drop]
  rw [this]; simp

theorem cells_news {w : World} {k : IntKind} {x : Addr} {l : List Nat} (h : Cells k w (some x) l) : ∀ j u, (vals k l)[j]? = some u → w.cell? (x.add j) = some u := by
  intro j u hj
  have hl : j < l.length := by
    have := (List.getElem?_eq_some_iff.1 hj).1
    rwa [vals_length] at this
  obtain ⟨b, off, he, hc⟩ := h (by omega)
  obtain rfl := Option.some.inj he
  rw [Addr.add_lit, hc j hl, ← vals_get k l j hl]
  exact hj

theorem under_flat (ls : List (List Nat)) (h : ∀ i, i < ls.length → Under 256 (tx ls i)) : Under 256 ls.flatten := by
  intro x hx
  obtain ⟨l, hl, hxl⟩ := List.mem_flatten.1 hx
  obtain ⟨i, hi, rfl⟩ := List.getElem_of_mem hl
  have := h i hi
  unfold tx at this
  rw [List.getElem?_eq_getElem hi] at this
  exact this x hxl

theorem Rows2.under {w : World} {v : Value} {ls : List (List Nat)} (h : Rows2 w v ls) : Under 256 ls.flatten := by
  obtain ⟨a, cap, rfl, h1, h2, h3⟩ := h
  apply under_flat
  intro i hi
  obtain ⟨b, off, rfl, hc⟩ := h3 (by omega)
  obtain ⟨u, _, ⟨_, _, _, _, _, _, h6⟩, _⟩ := hc i hi
  exact h6
end Go.Proofs.Yteiknfcegchbcaa

/- A value whose block is not older than a bound. -/
namespace Go.Proofs.Yteiknfcegchbcaa
open Go.RowKit
set_option linter.unusedVariables false
def New (B : Nat) (v : Value) : Prop := ∀ q, v.ownBlock = some q → B ≤ q
theorem New.at {B g n c o : Nat} (h : B ≤ g) : New B (.slice (some ⟨g, o, none⟩) n c) := fun q hq => by
  have : g = q := by simpa [Value.ownBlock] using hq
  omega
theorem New.nil (B n c : Nat) : New B (.slice none n c) := fun q hq => by simp [Value.ownBlock] at hq
theorem New.mono {B B' : Nat} {v : Value} (h : New B v) (hB : B' ≤ B) : New B' v := fun q hq => Nat.le_trans hB (h q hq)
theorem Own.new {e : TypeId} {k : IntKind} {m : Nat} {w : World} {B : Nat} {v : Value} {l : List Nat} (h : Own e k m w B v l) : New B v := fun q hq => (h.1.lt q hq).1
end Go.Proofs.Yteiknfcegchbcaa
