/- The code's words: RotateLeft32, turned, gathered, boxed. -/
import Derived.Test.YtjeofkemfpdieaaJDb
import Derived.BigRegion
namespace Go.Proofs.Ytjeofkemfpdieaa
open Go.RowKit
set_option linter.unusedVariables false
set_option linter.unusedSimpArgs false

theorem or_int (x y : Nat) (hx : x < 4294967296) (hy : y < 4294967296) : bits .or .u32 (x : Int) (y : Int) = ((x ||| y : Nat) : Int) := u32_or_nat x y hx hy
theorem rot_int1 {a b c d : Nat} (ha : a < 256) (hb : b < 256) (hc : c < 256) (hd : d < 256) : bits .or .u32 ((wd a b c d : Nat) * 256 % 4294967296) ((wd a b c d : Nat) / 16777216 : Int) = ((wd b c d a : Nat) : Int) := by
  have h := wd_lt ha hb hc hd
  rw [← trn_1 ha hb hc hd]
  generalize wd a b c d = W at *
  have e1 : ((W : Int) * 256 % 4294967296) = ((W * 256 % 4294967296 : Nat) : Int) := by simp
  have e2 : ((W : Int) / 16777216) = ((W / 16777216 : Nat) : Int) := by simp
  rw [e1, e2, or_int _ _ (Nat.mod_lt _ (by decide)) (by omega)]
set_option maxHeartbeats 2000000 in
set_option maxRecDepth 100000 in
theorem rotl_1 {a b c d : Nat} (ha : a < 256) (hb : b < 256) (hc : c < 256) (hd : d < 256) (w : World) : Calls Try.prog 79 #[.int .u32 (wd a b c d : Nat), .int .i64 8] w fun e w' => e = .returned (.int .u32 (wd b c d a : Nat)) ∧ w' = w := by
  have h := wd_lt ha hb hc hd
  have HR := hide (rot_int1 ha hb hc hd)
  have fk : bits .and .u64 8 31 = 8 := by decide
  generalize wd a b c d = W at *
  have hi : (W : Int) < 4294967296 := by omega
  go_enter Try.func79, Try.ntmps79
  go_wp2
  go_ret
  exact ⟨ret_int HR.out, rfl⟩
set_option maxHeartbeats 2000000 in
set_option maxRecDepth 100000 in
theorem turned_1 {a b c d : Nat} (ha : a < 256) (hb : b < 256) (hc : c < 256) (hd : d < 256) (w : World) : Calls Try.prog 70 #[.int .u32 (wd a b c d : Nat), .int .i64 1] w fun e w' => e = .returned (.int .u32 (wd b c d a : Nat)) ∧ w' = w := by
  have h := wd_lt ha hb hc hd
  have hr := fun y => rotl_1 ha hb hc hd y
  generalize wd a b c d = W at *
  generalize wd b c d a = V at *
  go_enter Try.func70, Try.ntmps70
  go_wp2_with fail
  refine (hr _).mono ?_
  rintro e y ⟨rfl, hy⟩
  obtain rfl := hy.symm
  go_wp2
  go_ret
  exact ⟨rfl, rfl⟩
theorem rot_int2 {a b c d : Nat} (ha : a < 256) (hb : b < 256) (hc : c < 256) (hd : d < 256) : bits .or .u32 ((wd a b c d : Nat) * 65536 % 4294967296) ((wd a b c d : Nat) / 65536 : Int) = ((wd c d a b : Nat) : Int) := by
  have h := wd_lt ha hb hc hd
  rw [← trn_2 ha hb hc hd]
  generalize wd a b c d = W at *
  have e1 : ((W : Int) * 65536 % 4294967296) = ((W * 65536 % 4294967296 : Nat) : Int) := by simp
  have e2 : ((W : Int) / 65536) = ((W / 65536 : Nat) : Int) := by simp
  rw [e1, e2, or_int _ _ (Nat.mod_lt _ (by decide)) (by omega)]
set_option maxHeartbeats 2000000 in
set_option maxRecDepth 100000 in
theorem rotl_2 {a b c d : Nat} (ha : a < 256) (hb : b < 256) (hc : c < 256) (hd : d < 256) (w : World) : Calls Try.prog 79 #[.int .u32 (wd a b c d : Nat), .int .i64 16] w fun e w' => e = .returned (.int .u32 (wd c d a b : Nat)) ∧ w' = w := by
  have h := wd_lt ha hb hc hd
  have HR := hide (rot_int2 ha hb hc hd)
  have fk : bits .and .u64 16 31 = 16 := by decide
  generalize wd a b c d = W at *
  have hi : (W : Int) < 4294967296 := by omega
  go_enter Try.func79, Try.ntmps79
  go_wp2
  go_ret
  exact ⟨ret_int HR.out, rfl⟩
set_option maxHeartbeats 2000000 in
set_option maxRecDepth 100000 in
theorem turned_2 {a b c d : Nat} (ha : a < 256) (hb : b < 256) (hc : c < 256) (hd : d < 256) (w : World) : Calls Try.prog 70 #[.int .u32 (wd a b c d : Nat), .int .i64 2] w fun e w' => e = .returned (.int .u32 (wd c d a b : Nat)) ∧ w' = w := by
  have h := wd_lt ha hb hc hd
  have hr := fun y => rotl_2 ha hb hc hd y
  generalize wd a b c d = W at *
  generalize wd c d a b = V at *
  go_enter Try.func70, Try.ntmps70
  go_wp2_with fail
  refine (hr _).mono ?_
  rintro e y ⟨rfl, hy⟩
  obtain rfl := hy.symm
  go_wp2
  go_ret
  exact ⟨rfl, rfl⟩
theorem rot_int3 {a b c d : Nat} (ha : a < 256) (hb : b < 256) (hc : c < 256) (hd : d < 256) : bits .or .u32 ((wd a b c d : Nat) * 16777216 % 4294967296) ((wd a b c d : Nat) / 256 : Int) = ((wd d a b c : Nat) : Int) := by
  have h := wd_lt ha hb hc hd
  rw [← trn_3 ha hb hc hd]
  generalize wd a b c d = W at *
  have e1 : ((W : Int) * 16777216 % 4294967296) = ((W * 16777216 % 4294967296 : Nat) : Int) := by simp
  have e2 : ((W : Int) / 256) = ((W / 256 : Nat) : Int) := by simp
  rw [e1, e2, or_int _ _ (Nat.mod_lt _ (by decide)) (by omega)]
set_option maxHeartbeats 2000000 in
set_option maxRecDepth 100000 in
theorem rotl_3 {a b c d : Nat} (ha : a < 256) (hb : b < 256) (hc : c < 256) (hd : d < 256) (w : World) : Calls Try.prog 79 #[.int .u32 (wd a b c d : Nat), .int .i64 24] w fun e w' => e = .returned (.int .u32 (wd d a b c : Nat)) ∧ w' = w := by
  have h := wd_lt ha hb hc hd
  have HR := hide (rot_int3 ha hb hc hd)
  have fk : bits .and .u64 24 31 = 24 := by decide
  generalize wd a b c d = W at *
  have hi : (W : Int) < 4294967296 := by omega
  go_enter Try.func79, Try.ntmps79
  go_wp2
  go_ret
  exact ⟨ret_int HR.out, rfl⟩
set_option maxHeartbeats 2000000 in
set_option maxRecDepth 100000 in
theorem turned_3 {a b c d : Nat} (ha : a < 256) (hb : b < 256) (hc : c < 256) (hd : d < 256) (w : World) : Calls Try.prog 70 #[.int .u32 (wd a b c d : Nat), .int .i64 3] w fun e w' => e = .returned (.int .u32 (wd d a b c : Nat)) ∧ w' = w := by
  have h := wd_lt ha hb hc hd
  have hr := fun y => rotl_3 ha hb hc hd y
  generalize wd a b c d = W at *
  generalize wd d a b c = V at *
  go_enter Try.func70, Try.ntmps70
  go_wp2_with fail
  refine (hr _).mono ?_
  rintro e y ⟨rfl, hy⟩
  obtain rfl := hy.symm
  go_wp2
  go_ret
  exact ⟨rfl, rfl⟩
theorem gat_int {a b c d : Nat} (ha : a < 256) (hb : b < 256) (hc : c < 256) (hd : d < 256) : bits .or .u32 (bits .or .u32 (bits .or .u32 ((a : Int) * 16777216) ((b : Int) * 65536)) ((c : Int) * 256)) (d : Int) = ((wd a b c d : Nat) : Int) := by
  rw [← wd_gather ha hb hc hd]
  have e1 : (a : Int) * 16777216 = ((a * 16777216 : Nat) : Int) := by simp
  have e2 : (b : Int) * 65536 = ((b * 65536 : Nat) : Int) := by simp
  have e3 : (c : Int) * 256 = ((c * 256 : Nat) : Int) := by simp
  have o : ∀ x y : Nat, x < 4294967296 → y < 4294967296 → x ||| y < 4294967296 := fun x y hx hy => Nat.or_lt_two_pow (n := 32) hx hy
  rw [e1, e2, e3, or_int _ _ (by omega) (by omega), or_int _ _ (o _ _ (by omega) (by omega)) (by omega), or_int _ _ (o _ _ (o _ _ (by omega) (by omega)) (by omega)) (by omega)]
/-- a table of 256 bytes lies from a place on -/
def Tab (w : World) (g o : Nat) (T : List Nat) : Prop := ∀ c, c < 256 → w.cell? ⟨g, o + c, none⟩ = some (.int .u8 (el T c))
theorem Tab.below {w w' : World} {g o : Nat} {T : List Nat} (h : Tab w g o T) (hb : Below w.heap.size w w') : Tab w' g o T := fun c hc => keep_cell (h c hc) hb
theorem Tab.but {w w' : World} {g o q : Nat} {T : List Nat} (h : Tab w g o T) (hb : But q w w') (hn : g ≠ q) : Tab w' g o T := fun c hc => But.cell (h c hc) hb hn
set_option maxHeartbeats 4000000 in
set_option maxRecDepth 100000 in
theorem gath_any (g o : Nat) (T : List Nat) (W0 W1 W2 W3 a b c d : Nat) (hT : Under 256 T) (l0 : W0 < 4294967296) (l1 : W1 < 4294967296) (l2 : W2 < 4294967296) (l3 : W3 < 4294967296) (h0 : W0 / 16777216 = a) (h1 : W1 / 65536 % 256 = b) (h2 : W2 / 256 % 256 = c) (h3 : W3 % 256 = d) (w : World) (hw : Tab w g o T) :
    Calls Try.prog 78 #[.pointer (some ⟨g, o, none⟩), .int .u32 (W0 : Int), .int .u32 (W1 : Int), .int .u32 (W2 : Int), .int .u32 (W3 : Int)] w fun e w' => e = .returned (.int .u32 (wd (el T a) (el T b) (el T c) (el T d) : Nat)) ∧ Below w.heap.size w w' := by
  have ha : a < 256 := by omega
  have hb : b < 256 := by omega
  have hc : c < 256 := by omega
  have hd : d < 256 := by omega
  have e0 : (W0 : Int) / 16777216 = (a : Int) := by omega
  have s1 : IntKind.u8.wrap ((W1 : Int) / 65536) = (b : Int) := by rw [IntKind.wrap_u8]; omega
  have s2 : IntKind.u8.wrap ((W2 : Int) / 256) = (c : Int) := by rw [IntKind.wrap_u8]; omega
  have s3 : IntKind.u8.wrap (W3 : Int) = (d : Int) := by rw [IntKind.wrap_u8]; omega
  have m1 : (W1 : Int) / 65536 % 256 = (b : Int) := by omega
  have m2 : (W2 : Int) / 256 % 256 = (c : Int) := by omega
  have m3 : (W3 : Int) % 256 = (d : Int) := by omega
  have c0 := hw a ha
  have c1 := hw b hb
  have c2 := hw c hc
  have c3 := hw d hd
  have t0 := el_lt hT (by decide) a
  have t1 := el_lt hT (by decide) b
  have t2 := el_lt hT (by decide) c
  have t3 := el_lt hT (by decide) d
  have HG := hide (gat_int t0 t1 t2 t3)
  generalize el T a = A at *
  generalize el T b = B at *
  generalize el T c = C at *
  generalize el T d = D at *
  have ai : (a : Int) < 256 := by omega
  have bi : (b : Int) < 256 := by omega
  have ci : (c : Int) < 256 := by omega
  have di : (d : Int) < 256 := by omega
  clear h0 h1 h2 h3 hw
  go_enter Try.func78, Try.ntmps78
  go_wp2
  go_quiet (fail)
  go_wp2
  go_ret
  exact ⟨ret_int HG.out, below_drewN (Below.refl _ _) _⟩
end Go.Proofs.Ytjeofkemfpdieaa

/- The code's blocks of four words: xored; the cipher's block in memory; keyed. -/
namespace Go.Proofs.Ytjeofkemfpdieaa
open Go.RowKit
set_option linter.unusedVariables false
set_option linter.unusedSimpArgs false

theorem zero4 : ∀ w, (zeroValue 81).run Try.prog w = .ok (.agg (arr .u32 (zA 4))) w := zero_arr (by kernel_rfl)
theorem xor_32 (x y : Nat) (hx : x < 4294967296) (hy : y < 4294967296) : bits .xor .u32 (x : Int) (y : Int) = ((x ^^^ y : Nat) : Int) := u32_xor_nat x y hx hy
theorem ix4 (l : List Nat) (hl : l.length = 4) (i : Nat) (hi : i < 4) (w : World) : (Instr.index 81 (.agg (arr .u32 l)) (.int .i64 (i : Int))).run Try.prog w = .ok (.int .u32 (el l i)) w := index_arr 81 69 4 .u32 l Try.underlying81 Try.underlying69 (by kernel_rfl) hl i hi w
/-- two blocks xored -/
def xr16 (a b : List Nat) : List Nat := of16 fun i => el a i ^^^ el b i
theorem xr16_b {a b : List Nat} (ha : B16 a) (hb : B16 b) : B16 (xr16 a b) := of16_b fun i _ => xor_8 (ha.el _) (hb.el _)
/-- a cipher's cells -/
def ciL (n : Nat) (ws T : List Nat) : List Value := .int .i64 (n : Int) :: (vals .u32 ws ++ vals .u8 T)
/-- a cipher lies in block g -/
structure Cph (w : World) (g n : Nat) (ws T : List Nat) : Prop where
  here : w.heap[g]? = some (.cells (ciL n ws T).toArray 93 (0, 0))
  lw : ws.length = 60
  lt : T.length = 256
theorem Cph.old {w : World} {g n : Nat} {ws T : List Nat} (h : Cph w g n ws T) : g < w.heap.size := by
  rcases Nat.lt_or_ge g w.heap.size with hlt | hge
  · exact hlt
  · have := h.here
    rw [Array.getElem?_eq_none hge] at this; cases this
theorem Cph.below {w w' : World} {g n : Nat} {ws T : List Nat} (h : Cph w g n ws T) (hb : Below w.heap.size w w') : Cph w' g n ws T := ⟨(hb.block g h.old).trans h.here, h.lw, h.lt⟩
theorem Cph.but {w w' : World} {g n q : Nat} {ws T : List Nat} (h : Cph w g n ws T) (hb : But q w w') (hn : g ≠ q) : Cph w' g n ws T := ⟨(hb.block g h.old hn).trans h.here, h.lw, h.lt⟩
theorem Cph.rounds {w : World} {g n : Nat} {ws T : List Nat} (h : Cph w g n ws T) : w.cell? ⟨g, 0, none⟩ = some (.int .i64 (n : Int)) := by rw [cell_of_row w g 0 _ _ (0, 0) h.here]; rfl
theorem Cph.word {w : World} {g n : Nat} {ws T : List Nat} (h : Cph w g n ws T) {i : Nat} (hi : i < 60) : w.cell? ⟨g, 1 + i, none⟩ = some (.int .u32 (el ws i)) := by
  rw [cell_of_row w g (1 + i) _ _ (0, 0) h.here, List.getElem?_toArray, ciL, Nat.add_comm, List.getElem?_cons_succ, List.getElem?_append_left (by rw [vals_length, h.lw]; exact hi), vals_get _ _ _ (by rw [h.lw]; exact hi)]
theorem Cph.tab {w : World} {g n : Nat} {ws T : List Nat} (h : Cph w g n ws T) : Tab w g 61 T := fun c hc => by
  rw [cell_of_row w g (61 + c) _ _ (0, 0) h.here, List.getElem?_toArray, ciL, show 61 + c = (60 + c) + 1 by omega, List.getElem?_cons_succ, List.getElem?_append_right (by rw [vals_length, h.lw]; omega), vals_length, h.lw, show 60 + c - 60 = c by omega, vals_get _ _ _ (by rw [h.lt]; exact hc)]
theorem Cph.frozen {w : World} {g n : Nat} {ws T : List Nat} (h : Cph w g n ws T) (i : Nat) : w.frozen? ⟨g, i, none⟩ = false := by simp [World.frozen?, h.here]
theorem cl_set (n : Nat) (ws T : List Nat) (i x : Nat) (hi : i < ws.length) : (ciL n ws T).set (1 + i) (.int .u32 (x : Int)) = ciL n (ws.set i x) T := by
  unfold ciL
  rw [Nat.add_comm, List.set_cons_succ, List.set_append_left _ _ (by rw [vals_length]; exact hi), vals_set]
theorem Cph.set {w : World} {g n : Nat} {ws T : List Nat} (h : Cph w g n ws T) {i : Nat} (x : Nat) (hi : i < 60) : Cph (w.setCell ⟨g, 1 + i, none⟩ (.int .u32 (x : Int))) g n (ws.set i x) T := by
  refine ⟨?_, by rw [List.length_set]; exact h.lw, h.lt⟩
  rw [setCell_eq_setRow w g (1 + i) _ _ (0, 0) _ h.here]
  have e : (ciL n ws T).toArray.setIfInBounds (1 + i) (.int .u32 (x : Int)) = (ciL n (ws.set i x) T).toArray := by
    rw [← cl_set n ws T i x (by rw [h.lw]; exact hi)]
    simp
  rw [e]
  exact setRow_heap w g _ _ _ _ h.here
/-- the words of round keys, as bytes tell them -/
def Kws (ks ws : List Nat) : Prop := ∀ i, 4 * i < ks.length → el ws i = col ks i
set_option maxHeartbeats 4000000 in
set_option maxRecDepth 100000 in
theorem keyed_any (g N r : Nat) (ws T ks s : List Nat) (w : World) (hC : Cph w g N ws T) (hK : Kws ks ws) (hku : Under 256 ks) (hr : 16 * r + 16 ≤ ks.length) (hr2 : r ≤ 14) (hs : B16 s) :
    Calls Try.prog 72 #[.pointer (some ⟨g, 0, none⟩), .agg (arr .u32 (sw s)), .int .i64 (r : Int)] w fun e w' => e = .returned (.agg (arr .u32 (sw (keyAt ks r s)))) ∧ Below w.heap.size w w' := by
  have hz := zero4
  have L0 := (Lies.new .u32 81 w (sw s)).alloc (.cells (arr .u32 (zA 4)) 81)
  have L2 := Lies.new .u32 81 (w.alloc (.cells (arr .u32 (sw s)) 81)) (zA 4)
  have hb0 := keep_trans (keep_alloc w (.cells (arr .u32 (sw s)) 81)) (keep_alloc _ (.cells (arr .u32 (zA 4)) 81))
  simp only [World.size_alloc, Nat.add_assoc, Nat.reduceAdd] at L2
  have go := hC.old
  have C0 := hC.below hb0
  have eA := fun k => sw_el s (c := k)
  have uA := col_lt hs.2
  have lA := sw_len s
  have hw4 : ∀ i, i < 4 → el ws (4 * r + i) = col ks (4 * r + i) := fun i hi => hK (4 * r + i) (by omega)
  have uK := col_lt hku
  have hfin : upd (fun i => col s i ^^^ col ks (4 * r + i)) (sw s) 4 = sw (keyAt ks r s) := upd_sw rfl fun i hi => by
    have := col_key (r := r) hku hs.2 hi
    rw [← this]
    show _ ^^^ col ks (4 * r + i) = _
    unfold col
    rw [show 4 * (4 * r + i) = 16 * r + 4 * i by omega]
  have HE := hide (And.intro eA (And.intro uA (And.intro lA (And.intro hw4 (And.intro uK hfin)))))
  clear eA uA lA hw4 uK hfin hK
  generalize sw s = A at *
  go_enter Try.func72, Try.ntmps72
  go_wp2
  clear hz
  generalize (w.alloc (.cells (arr .u32 A) 81)).alloc (.cells (arr .u32 (zA 4)) 81) = x1 at *
  go_loopw [8] (fun i wr => ∃ n : Nat, n ≤ 4 ∧ i = .int .i64 n ∧ Lies .u32 81 wr w.heap.size (upd (fun i => col s i ^^^ col ks (4 * r + i)) A n) ∧ But w.heap.size x1 wr) (fun i _ => 4 - (intOf i).toNat)
  case atStart => exact ⟨0, Nat.zero_le _, rfl, L0, But.refl _ _⟩
  case round =>
    obtain ⟨n, hn, rfl, hA, hB⟩ := hrel
    have h2 := L2.but hB (by omega)
    have C1 := C0.but hB (by omega)
    by_cases hlt : n < 4
    · obtain ⟨eA, uA, lA, hw4, uK, _⟩ := HE.out
      obtain ⟨r4, hr4⟩ : ∃ x : Nat, x = 4 * r := ⟨_, rfl⟩
      obtain ⟨ix, hix⟩ : ∃ x : Nat, x = r4 + n := ⟨_, rfl⟩
      have hst : ∀ y, Lies .u32 81 y w.heap.size (upd (fun i => col s i ^^^ col ks (4 * r + i)) A n) → Lies .u32 81 (y.setCell ⟨w.heap.size, n, none⟩ (.int .u32 (bits .xor .u32 (col s n : Int) (col ks ix : Int)))) w.heap.size (upd (fun i => col s i ^^^ col ks (4 * r + i)) A (n + 1)) := fun y hy => by
        rw [xor_32 _ _ (uA n) (uK ix), hix, hr4]
        exact hy.set n _
      have c1 := hA.cell (i := n) (by rw [upd_len, lA]; exact hlt)
      rw [upd_same _ _ (by omega) (Nat.le_refl _), eA n hlt] at c1
      have f1 := hA.frozen n
      have c2 := C1.word (i := ix) (by omega)
      rw [show el ws ix = col ks ix by rw [hix, hr4]; exact hw4 n hlt] at c2
      have e_r : 4 * (r : Int) = (r4 : Int) := by omega
      have s_r : IntKind.i64.wrap (r4 : Int) = (r4 : Int) := by rw [IntKind.wrap_i64]; omega
      have e_x : (r4 : Int) + (n : Int) = (ix : Int) := by omega
      have s_x : IntKind.i64.wrap (ix : Int) = (ix : Int) := by rw [IntKind.wrap_i64]; omega
      have i0 : (0 : Int) ≤ (n : Int) := Int.natCast_nonneg _
      have i1 : (n : Int) < 4 := by omega
      have i2 : (0 : Int) ≤ (ix : Int) := Int.natCast_nonneg _
      have i3 : (ix : Int) < 60 := by omega
      have HST := hide hst
      clear hst eA uA lA hw4 uK hr4 hix
      generalize col s n = p at *
      generalize col ks ix = q at *
      go_wp2
      go_region
      go_wp2
      exact ⟨⟨n + 1, by omega, by go_num, HST.out _ hA, (hB.setCell n _).drew⟩, by simp [intOf]; omega⟩
    · obtain rfl : n = 4 := by omega
      obtain ⟨_, _, lA, _, _, hfin⟩ := HE.out
      rw [hfin] at hA
      have hsl : (sw (keyAt ks r s)).length = 4 := rfl
      have hbr := hb0.trans (hB.below (by omega) hb0.size)
      generalize hX : sw (keyAt ks r s) = X at hA hsl
      have HX := hide hX
      clear hX hfin
      have hOf : Lies .u32 81 (wr.setRow (w.heap.size + 1) (arr .u32 X)) (w.heap.size + 1) X := h2.row
      have hbf := hbr.trans ((But.setRow (But.refl (w.heap.size + 1) _) (arr .u32 X)).below (by omega) hbr.size)
      go_wp2_with (first
        | (refine wpList_load_row rfl 81 _ (by rfl) w.heap.size (by rfl) _ _ _ (.array 4 69) hA (by kernel_rfl) rfl (by rw [arr_size, hsl]; kernel_rfl) ?_)
        | (refine wpList_store_row rfl 81 _ _ (by rfl) (w.heap.size + 1) (arr .u32 X) (by rfl) (by rfl) _ _ h2 (by rw [arr_size, hsl]; kernel_rfl) (by rw [arr_size, arr_size, hsl, zA_len]) (arr_one _ _) ?_)
        | fail)
      refine bodyPost_ret (v := .agg (arr .u32 X)) ?_ rfl ⟨by rw [HX.out], hbf⟩
      exact results_cell_row Try.results72 _ _ (w.heap.size + 1) _ _ _ (.array 4 69) (by rfl) hOf (by kernel_rfl) rfl (by rw [arr_size, hsl]; kernel_rfl)
end Go.Proofs.Ytjeofkemfpdieaa

/- The code's mixed, unmixed. -/
namespace Go.Proofs.Ytjeofkemfpdieaa
open Go.RowKit
set_option linter.unusedVariables false
set_option linter.unusedSimpArgs false

theorem mix_int {a b c d : Nat} (ha : a < 256) (hb : b < 256) (hc : c < 256) (hd : d < 256) (X : Nat) (hX : X = wd a b c d ^^^ wd b c d a) : bits .xor .u32 (bits .xor .u32 (bits .xor .u32 (dblW X : Int) (wd b c d a : Int)) (wd c d a b : Int)) (wd d a b c : Int) = ((mixW a b c d : Nat) : Int) := by
  have o : ∀ x y : Nat, x < 4294967296 → y < 4294967296 → x ^^^ y < 4294967296 := fun x y hx hy => Nat.xor_lt_two_pow (n := 32) hx hy
  have l1 := wd_lt hb hc hd ha
  have l2 := wd_lt hc hd ha hb
  have l3 := wd_lt hd ha hb hc
  have l0 := dblW_lt X
  rw [xor_32 _ _ l0 l1, xor_32 _ _ (o _ _ l0 l1) l2, xor_32 _ _ (o _ _ (o _ _ l0 l1) l2) l3, hX, mix_is ha hb hc hd]
set_option maxHeartbeats 4000000 in
set_option maxRecDepth 100000 in
theorem mixed_any (s : List Nat) (w : World) (hs : B16 s) :
    Calls Try.prog 74 #[.agg (arr .u32 (sw s))] w fun e w' => e = .returned (.agg (arr .u32 (sw (colsL 2 3 1 1 s)))) ∧ Below w.heap.size w w' := by
  have hz := zero4
  have L0 := (Lies.new .u32 81 w (sw s)).alloc (.cells (arr .u32 (zA 4)) 81)
  have L2 := Lies.new .u32 81 (w.alloc (.cells (arr .u32 (sw s)) 81)) (zA 4)
  have hb0 := keep_trans (keep_alloc w (.cells (arr .u32 (sw s)) 81)) (keep_alloc _ (.cells (arr .u32 (zA 4)) 81))
  simp only [World.size_alloc, Nat.add_assoc, Nat.reduceAdd] at L2
  have lA := sw_len s
  have eA := fun k => sw_el s (c := k)
  have hfin : upd (fun i => mixW (el s (4 * i)) (el s (4 * i + 1)) (el s (4 * i + 2)) (el s (4 * i + 3))) (sw s) 4 = sw (colsL 2 3 1 1 s) := upd_sw rfl fun i hi => (col_mix hi).symm
  have HE := hide (And.intro eA (And.intro lA hfin))
  clear eA hfin
  generalize sw s = A at *
  go_enter Try.func74, Try.ntmps74
  go_wp2_with (first
    | (refine wpList_load_row rfl 81 _ (by rfl) w.heap.size (by rfl) _ _ _ (.array 4 69) L0 (by kernel_rfl) rfl (by rw [arr_size, lA]; kernel_rfl) ?_)
    | fail)
  clear hz
  generalize (w.alloc (.cells (arr .u32 A) 81)).alloc (.cells (arr .u32 (zA 4)) 81) = x1 at *
  go_loopw [7] (fun i wr => ∃ n : Nat, n ≤ 4 ∧ i = .int .i64 n ∧ Lies .u32 81 wr w.heap.size (upd (fun i => mixW (el s (4 * i)) (el s (4 * i + 1)) (el s (4 * i + 2)) (el s (4 * i + 3))) A n) ∧ But w.heap.size x1 wr) (fun i _ => 4 - (intOf i).toNat)
  case atStart => exact ⟨0, Nat.zero_le _, rfl, L0, But.refl _ _⟩
  case round =>
    obtain ⟨n, hn, rfl, hA, hB⟩ := hrel
    have h2 := L2.but hB (by omega)
    by_cases hlt : n < 4
    · obtain ⟨eA, lA, _⟩ := HE.out
      have b0 := hs.el (4 * n)
      have b1 := hs.el (4 * n + 1)
      have b2 := hs.el (4 * n + 2)
      have b3 := hs.el (4 * n + 3)
      have hix := fun y => ix4 A lA n hlt y
      rw [eA n hlt] at hix
      have f1 := hA.frozen n
      have c1 := hA.cell (i := n) (by rw [upd_len, lA]; exact hlt)
      have hst : ∀ y, Lies .u32 81 y w.heap.size (upd (fun i => mixW (el s (4 * i)) (el s (4 * i + 1)) (el s (4 * i + 2)) (el s (4 * i + 3))) A n) → Lies .u32 81 (y.setCell ⟨w.heap.size, n, none⟩ (.int .u32 (mixW (el s (4 * n)) (el s (4 * n + 1)) (el s (4 * n + 2)) (el s (4 * n + 3)) : Nat))) w.heap.size (upd (fun i => mixW (el s (4 * i)) (el s (4 * i + 1)) (el s (4 * i + 2)) (el s (4 * i + 3))) A (n + 1)) := fun y hy => hy.set n _
      have HST := hide hst
      have ecol : col s n = wd (el s (4 * n)) (el s (4 * n + 1)) (el s (4 * n + 2)) (el s (4 * n + 3)) := rfl
      rw [ecol] at hix
      clear hst ecol
      generalize el s (4 * n) = a at *
      generalize el s (4 * n + 1) = b at *
      generalize el s (4 * n + 2) = c at *
      generalize el s (4 * n + 3) = d at *
      have t1 := fun y => turned_1 b0 b1 b2 b3 y
      have t2 := fun y => turned_2 b0 b1 b2 b3 y
      have t3 := fun y => turned_3 b0 b1 b2 b3 y
      have x1 := xor_32 _ _ (wd_lt b0 b1 b2 b3) (wd_lt b1 b2 b3 b0)
      have hX := Nat.xor_lt_two_pow (n := 32) (wd_lt b0 b1 b2 b3) (wd_lt b1 b2 b3 b0)
      have HM := hide (mix_int b0 b1 b2 b3 _ rfl)
      have hdb := fun y => dbl_any _ hX y
      generalize wd a b c d ^^^ wd b c d a = X at *
      generalize dblW X = D at *
      generalize wd a b c d = W at *
      generalize wd b c d a = W1 at *
      generalize wd c d a b = W2 at *
      generalize wd d a b c = W3 at *
      have i0 : (0 : Int) ≤ (n : Int) := Int.natCast_nonneg _
      have i1 : (n : Int) < 4 := by omega
      clear eA lA
      go_wp2_with (first
        | (go_at_call_of 70 (#[Value.int .u32 (W : Int), Value.int .i64 1]); refine (t1 _).mono ?_; rintro e y ⟨rfl, hy⟩; obtain rfl := hy.symm; clear t1)
        | (go_at_call_of 70 (#[Value.int .u32 (W : Int), Value.int .i64 2]); refine (t2 _).mono ?_; rintro e y ⟨rfl, hy⟩; obtain rfl := hy.symm; clear t2)
        | (go_at_call_of 70 (#[Value.int .u32 (W : Int), Value.int .i64 3]); refine (t3 _).mono ?_; rintro e y ⟨rfl, hy⟩; obtain rfl := hy.symm; clear t3)
        | (go_at_call 80; refine (hdb _).mono ?_; rintro e y ⟨rfl, hy⟩; obtain rfl := hy.symm; clear hdb)
        | fail)
      rw [HM.out]
      exact ⟨⟨n + 1, by omega, by go_num, HST.out _ hA, hB.setCell n _⟩, by simp [intOf]; omega⟩
    · obtain rfl : n = 4 := by omega
      obtain ⟨_, _, hfin⟩ := HE.out
      rw [hfin] at hA
      have hsl : (sw (colsL 2 3 1 1 s)).length = 4 := rfl
      have hbr := hb0.trans (hB.below (by omega) hb0.size)
      generalize hX : sw (colsL 2 3 1 1 s) = X at hA hsl
      have HX := hide hX
      clear hX hfin
      have hOf : Lies .u32 81 (wr.setRow (w.heap.size + 1) (arr .u32 X)) (w.heap.size + 1) X := h2.row
      have hbf := hbr.trans ((But.setRow (But.refl (w.heap.size + 1) _) (arr .u32 X)).below (by omega) hbr.size)
      go_wp2_with (first
        | (refine wpList_load_row rfl 81 _ (by rfl) w.heap.size (by rfl) _ _ _ (.array 4 69) hA (by kernel_rfl) rfl (by rw [arr_size, hsl]; kernel_rfl) ?_)
        | (refine wpList_store_row rfl 81 _ _ (by rfl) (w.heap.size + 1) (arr .u32 X) (by rfl) (by rfl) _ _ h2 (by rw [arr_size, hsl]; kernel_rfl) (by rw [arr_size, arr_size, hsl, zA_len]) (arr_one _ _) ?_)
        | fail)
      refine bodyPost_ret (v := .agg (arr .u32 X)) ?_ rfl ⟨by rw [HX.out], hbf⟩
      exact results_cell_row Try.results74 _ _ (w.heap.size + 1) _ _ _ (.array 4 69) (by rfl) hOf (by kernel_rfl) rfl (by rw [arr_size, hsl]; kernel_rfl)
/-- a block ahead of multiplying, to undo it -/
def preS (s : List Nat) : List Nat := of16 fun i => preB (el s i) (el s (4 * (i / 4) + (i % 4 + 2) % 4))
theorem preS_b {s : List Nat} (hs : B16 s) : B16 (preS s) := of16_b fun i _ => preB_lt (hs.el _) (hs.el _)
theorem col_pre {s : List Nat} {c : Nat} (h : c < 4) : col (preS s) c = wd (preB (el s (4 * c)) (el s (4 * c + 2))) (preB (el s (4 * c + 1)) (el s (4 * c + 3))) (preB (el s (4 * c + 2)) (el s (4 * c))) (preB (el s (4 * c + 3)) (el s (4 * c + 1))) := by
  unfold preS
  rw [col_of16 _ h]
  have hm : ∀ k, k < 4 → (4 * c + k) % 4 = k ∧ (4 * c + k) / 4 = c := fun k hk => by omega
  have h0 : (4 * c) % 4 = 0 ∧ (4 * c) / 4 = c := by omega
  rw [(hm 1 (by decide)).1, (hm 2 (by decide)).1, (hm 3 (by decide)).1, (hm 1 (by decide)).2, (hm 2 (by decide)).2, (hm 3 (by decide)).2, h0.1, h0.2]
  rfl
theorem pre_cols {s : List Nat} (hs : B16 s) : colsL 2 3 1 1 (preS s) = colsL 14 11 13 9 s := by
  have key : ∀ c, c < 4 → col (colsL 2 3 1 1 (preS s)) c = col (colsL 14 11 13 9 s) c := fun c hc => by
    rw [col_mix hc, ← col_unmix hs.2 hc]
    have e := col_pre (s := s) hc
    unfold col at e
    have l := fun i => (preS_b hs).el i
    have p := fun i j => preB_lt (hs.el i) (hs.el j)
    have q0 := wd_0 (l (4 * c)) (l (4 * c + 1)) (l (4 * c + 2)) (l (4 * c + 3))
    have q1 := wd_1 (l (4 * c)) (l (4 * c + 1)) (l (4 * c + 2)) (l (4 * c + 3))
    have q2 := wd_2 (l (4 * c)) (l (4 * c + 1)) (l (4 * c + 2)) (l (4 * c + 3))
    have q3 := wd_3 (l (4 * c)) (l (4 * c + 1)) (l (4 * c + 2)) (l (4 * c + 3))
    rw [e] at q0 q1 q2 q3
    rw [wd_0 (p _ _) (p _ _) (p _ _) (p _ _)] at q0
    rw [wd_1 (p _ _) (p _ _) (p _ _) (p _ _)] at q1
    rw [wd_2 (p _ _) (p _ _) (p _ _) (p _ _)] at q2
    rw [wd_3 (p _ _) (p _ _) (p _ _) (p _ _)] at q3
    rw [← q0, ← q1, ← q2, ← q3]
  have ba : B16 (colsL 2 3 1 1 (preS s)) := colsL_b (by decide) (by decide) (by decide) (by decide)
  have bb : B16 (colsL 14 11 13 9 s) := colsL_b (by decide) (by decide) (by decide) (by decide)
  refine ext16 ba.1 bb.1 fun i hi => ?_
  have k := key (i / 4) (by omega)
  unfold col at k
  have la := fun j => ba.el j
  have lb := fun j => bb.el j
  have a0 := wd_0 (la (4 * (i / 4))) (la (4 * (i / 4) + 1)) (la (4 * (i / 4) + 2)) (la (4 * (i / 4) + 3))
  have a1 := wd_1 (la (4 * (i / 4))) (la (4 * (i / 4) + 1)) (la (4 * (i / 4) + 2)) (la (4 * (i / 4) + 3))
  have a2 := wd_2 (la (4 * (i / 4))) (la (4 * (i / 4) + 1)) (la (4 * (i / 4) + 2)) (la (4 * (i / 4) + 3))
  have a3 := wd_3 (la (4 * (i / 4))) (la (4 * (i / 4) + 1)) (la (4 * (i / 4) + 2)) (la (4 * (i / 4) + 3))
  rw [k] at a0 a1 a2 a3
  rw [wd_0 (lb _) (lb _) (lb _) (lb _)] at a0
  rw [wd_1 (lb _) (lb _) (lb _) (lb _)] at a1
  rw [wd_2 (lb _) (lb _) (lb _) (lb _)] at a2
  rw [wd_3 (lb _) (lb _) (lb _) (lb _)] at a3
  have hr : i % 4 = 0 ∨ i % 4 = 1 ∨ i % 4 = 2 ∨ i % 4 = 3 := by omega
  rcases hr with h | h | h | h
  · rw [show i = 4 * (i / 4) by omega]; exact a0.symm
  · rw [show i = 4 * (i / 4) + 1 by omega]; exact a1.symm
  · rw [show i = 4 * (i / 4) + 2 by omega]; exact a2.symm
  · rw [show i = 4 * (i / 4) + 3 by omega]; exact a3.symm
theorem pre_int {a b c d : Nat} (ha : a < 256) (hb : b < 256) (hc : c < 256) (hd : d < 256) (X : Nat) (hX : X = wd a b c d ^^^ wd c d a b) : bits .xor .u32 (wd a b c d : Int) (dblW (dblW X) : Int) = ((wd (preB a c) (preB b d) (preB c a) (preB d b) : Nat) : Int) := by
  rw [xor_32 _ _ (wd_lt ha hb hc hd) (dblW_lt _), hX, pre_is ha hb hc hd]
end Go.Proofs.Ytjeofkemfpdieaa
