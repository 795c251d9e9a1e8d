/- mac's behind: what digests texts behind those that are given. -/
import Derived.Test.YtejlmgbmfeacdaaGreatDoorYC2
import Derived.Test.YtejlmgbmfeacdaaGreatDoorYDg
import Derived.Test.YtejlmgbmfeacdaaGreatDoorHRes32
import Derived.Test.YtejlmgbmfeacdaaGreatDoorHN2
import Derived.Lib.SlBuf
import Derived.Lib.MakeNoZero
import Derived.Deep.RegionLaw
import Derived.Test.YtejlmgbmfeacdaaGreatDoorKNw
namespace Go.Proofs.YtejlmgbmfeacdaaGreatDoor
open Go.RowKit
set_option linter.unusedVariables false
set_option linter.unusedSimpArgs false

theorem list17 : ∀ l : List Value, l.length = 17 → ∃ u0 u1 u2 u3 u4 u5 u6 u7 u8 u9 u10 u11 u12 u13 u14 u15 u16, l = [u0, u1, u2, u3, u4, u5, u6, u7, u8, u9, u10, u11, u12, u13, u14, u15, u16]
  | [u0, u1, u2, u3, u4, u5, u6, u7, u8, u9, u10, u11, u12, u13, u14, u15, u16], _ => ⟨u0, u1, u2, u3, u4, u5, u6, u7, u8, u9, u10, u11, u12, u13, u14, u15, u16, rfl⟩
set_option maxHeartbeats 2000000 in
set_option maxRecDepth 100000 in
theorem clo2_any (kind : Int) (hr : 0 < rateK kind) (hk4 : 3 < kind) (P : List Nat) (q r : Nat) (lv : Value) (ls : List (List Nat)) (w : World) (hT : Csts w) (hK : KAt w q kind P) (hc : w.cell? ⟨r, 0, none⟩ = some (.int .i64 kind)) (hL : Rows2 w lv ls) (hls : ls.flatten.length ≤ 100000) :
    Calls Tryz.prog 36 #[lv, .pointer (some ⟨q, 0, none⟩), .pointer (some ⟨r, 0, none⟩)] w fun e w' => ∃ v, e = .returned v ∧ Own 5 .u8 256 w' w.heap.size v (digD kind (P ++ ls.flatten)) ∧ Below w.heap.size w w' := by
  have hrw := World.block_lt_of_cell? w _ hc
  go_enter Tryz.func36, Tryz.ntmps36
  go_wp2
  refine c2_1 (w := w) (q := q) (r := r) (kind := kind) (P := P) (lv := lv) (ls := ls) hT hr hL hls hK.lt hrw ?_ hk4 ⟨⟨rfl, rfl⟩, rfl, rfl, rfl⟩ ⟨hK, hc, Below.refl _ _⟩
  rename_i Q' K hK'
  intro a x v F t6 hO hb
  obtain ⟨tm, df⟩ := a
  obtain ⟨hsz, hdf⟩ := F
  dsimp only at hsz hdf
  subst hdf
  obtain ⟨ll⟩ := tm
  obtain ⟨u0, u1, u2, u3, u4, u5, u6, u7, u8, u9, u10, u11, u12, u13, u14, u15, u16, rfl⟩ := list17 ll (by simpa using hsz)
  have e6 : u6 = v := t6
  subst e6
  clear t6 hsz
  refine hK' _ _ ?_
  have HO := hide hO
  have HB := hide hb
  clear hO hb
  go_wp2
  go_ret
  exact ⟨_, rfl, HO.out, HB.out⟩
theorem dg1 {kind : Int} (hk : kind = 1 ∨ kind = 2 ∨ kind = 3) {P : List Nat} {q : Nat} {tv : Value} {w : World} (hT : Roots w) (hB : Hb w q kind (wsH kind P) tv P.length) (hRt : Row .u8 256 w tv (tlH kind P)) (tT : Tidy tv) (hP : P.length ≤ 1000000) :
    Dg (digD kind) 32 #[.pointer (some ⟨q, 0, none⟩)] P w :=
  ⟨Tryz.call32, fun x lv ls hb hL hl => clo1_any kind hk P q tv lv ls x (hT.below hb) (hB.below hb) (hRt.below hb) tT hL hP hl⟩
theorem dg2 {kind : Int} (hr : 0 < rateK kind) (hk4 : 3 < kind) {P : List Nat} {q r : Nat} {w : World} (hT : Csts w) (hK : KAt w q kind P) (hc : w.cell? ⟨r, 0, none⟩ = some (.int .i64 kind)) :
    Dg (digD kind) 36 #[.pointer (some ⟨q, 0, none⟩), .pointer (some ⟨r, 0, none⟩)] P w :=
  ⟨Tryz.call36, fun x lv ls hb hL hl => clo2_any kind hr hk4 P q r lv ls x (hT.below hb) (hK.below hb) (keep_cell hc hb) hL hl⟩
theorem tlH_nil (kind : Int) : tlH kind [] = [] := by unfold tlH left; simp
/-- sha.New of whatever kind -/
theorem snew_any (kind : Int) (w : World) (hT : Roots w) (hk : kind = 1 ∨ kind = 2 ∨ kind = 3) :
    Calls Tryz.prog 30 #[.int .i64 kind] w fun e w' => e = .returned (.tuple #[.agg (hvP kind [] (.slice none 0 0)), .int .i64 0]) ∧ Below w.heap.size w w' := by
  rcases hk with h | h | h <;> subst h
  · exact new_1 w hT
  · exact new_2 w hT
  · exact new_3 w hT
set_option maxHeartbeats 2000000 in
set_option maxRecDepth 100000 in
theorem beh_sha (kind : Int) (hk : kind = 1 ∨ kind = 2 ∨ kind = 3) (lv : Value) (ls : List (List Nat)) (w : World) (hT : Roots w) (hL : Rows2 w lv ls) (hls : ls.flatten.length ≤ 100000) :
    Calls Tryz.prog 18 #[.int .i64 kind, lv] w fun e w' => ∃ fn cap, e = .returned (.func (.func fn) #[] cap) ∧ Dg (digD kind) fn cap ls.flatten w' ∧ Below w.heap.size w w' := by
  have hmf : ∀ (fn : Fn) (first cap : Array Value) (w : World), (Instr.makeFunc fn first cap).run Tryz.prog w = .ok (.func fn first cap) w := fun _ _ _ _ => rfl
  have hz : ∀ w, (zeroValue 52).run Tryz.prog w = .ok (.agg (hv 0 [0, 0, 0, 0, 0, 0, 0, 0] (.slice none 0 0) 0)) w := fun _ => by kernel_rfl
  have hb0 := keep_alloc w (.cells #[.int .i64 kind] 3)
  have hnew := fun x (hb : Below w.heap.size w x) => snew_any kind x (hT.below hb) hk
  have hadd := fun x (hb : Below w.heap.size w x) => added_any kind hk [] (.slice none 0 0) lv ls x (hT.below hb) (by rw [tlH_nil]; exact Row.nil _ _ _) tidy_nil (hL.below hb) (by decide) hls
  simp only [List.nil_append] at hadd
  have HL : Hid (ls.flatten.length ≤ 1000000) := hide (by omega)
  have HT := hide hT
  obtain ⟨la, lc, rfl, _⟩ := id hL
  clear hL hT hls
  generalize ls.flatten = LF at *
  go_enter Tryz.func18, Tryz.ntmps18
  go_wp2_with (first
    | (go_at_call 30; refine (hnew _ hb0).mono ?_; rintro e x1 ⟨rfl, hb1⟩; have hR1 : (x1.alloc (.cells (hv 0 [0, 0, 0, 0, 0, 0, 0, 0] (.slice none 0 0) 0) 52)).heap[x1.heap.size]? = some (.cells (hv 0 [0, 0, 0, 0, 0, 0, 0, 0] (.slice none 0 0) 0) 52 (0, 0)) := heap_alloc_last x1 _)
    | (refine wpList_store_row rfl 52 _ _ (by rfl) x1.heap.size (hvP kind [] (.slice none 0 0)) (by rfl) (by rfl) _ _ hR1 (by kernel_rfl) rfl (hv_one rfl) ?_; have hfu := setRow_heap (x1.alloc (.cells (hv 0 [0, 0, 0, 0, 0, 0, 0, 0] (.slice none 0 0) 0) 52)) x1.heap.size _ (hvP kind [] (.slice none 0 0)) 52 _ hR1; have hb2 := (keep_trans (keep_trans hb0 hb1) (keep_alloc x1 (.cells (hv 0 [0, 0, 0, 0, 0, 0, 0, 0] (.slice none 0 0) 0) 52))).trans ((But.setRow (But.refl x1.heap.size (x1.alloc (.cells (hv 0 [0, 0, 0, 0, 0, 0, 0, 0] (.slice none 0 0) 0) 52))) (hvP kind [] (.slice none 0 0))).below (keep_trans hb0 hb1).size (by simp; have := (keep_trans hb0 hb1).size; omega)))
    | (refine wpList_load_row rfl 52 _ (by rfl) x1.heap.size (by rfl) _ _ _ _ hfu Tryz.underlying52 rfl (by kernel_rfl) ?_)
    | (go_at_call 31; refine (hadd _ hb2).mono ?_; rintro e x3 ⟨tv3, rfl, hR3, hT3, hA3, hb3⟩; have hB3 := (hb3.block _ (heap_ltY hfu)).trans hfu; have hA := hA3 x1.heap.size (heap_ltY hfu) (fun hl => (by rw [tlH_nil] at hl; simp at hl)))
    | (refine wpList_store_row rfl 52 _ _ (by rfl) x1.heap.size (hvP kind LF tv3) (by rfl) (by rfl) _ _ hB3 (by kernel_rfl) rfl (hv_one hR3.cell1) ?_)
    | fail)
  go_ret
  have hBf : But x1.heap.size x3 (x3.setRow x1.heap.size (hvP kind LF tv3)) := (But.refl _ _).setRow _
  have hbw := keep_trans hb2 hb3
  have hb4 := hbw.trans (hBf.below (keep_trans hb0 hb1).size hbw.size)
  exact ⟨_, _, rfl, dg1 hk (HT.out.below hb4) (setRow_heap x3 x1.heap.size _ _ 52 _ hB3) (hR3.but hA hBf) hT3 HL.out, hb4⟩
theorem spK_nil (kind : Int) : spK kind [] = (sl kind (zs 25) 0 false).toArray := rfl
set_option maxHeartbeats 2000000 in
set_option maxRecDepth 100000 in
theorem beh_kec (kind : Int) (hr : 0 < rateK kind) (hk4 : 3 < kind) (lv : Value) (ls : List (List Nat)) (w : World) (hT : Csts w) (hL : Rows2 w lv ls) (hls : ls.flatten.length ≤ 100000) :
    Calls Tryz.prog 18 #[.int .i64 kind, lv] w fun e w' => ∃ fn cap, e = .returned (.func (.func fn) #[] cap) ∧ Dg (digD kind) fn cap ls.flatten w' ∧ Below w.heap.size w w' := by
  have hmf : ∀ (fn : Fn) (first cap : Array Value) (w : World), (Instr.makeFunc fn first cap).run Tryz.prog w = .ok (.func fn first cap) w := fun _ _ _ _ => rfl
  have hz : ∀ w, (zeroValue 52).run Tryz.prog w = .ok (.agg (hv 0 [0, 0, 0, 0, 0, 0, 0, 0] (.slice none 0 0) 0)) w := fun _ => by kernel_rfl
  have hz8 := zero28
  have hb0 := keep_alloc w (.cells #[.int .i64 kind] 3)
  have hc0 : (w.alloc (.cells #[.int .i64 kind] 3)).cell? ⟨w.heap.size, 0, none⟩ = some (.int .i64 kind) := by rw [World.cell?_alloc_at _ _ _ _ rfl]; rfl
  have hcc := fun x (hb : Below (w.alloc (.cells #[.int .i64 kind] 3)).heap.size (w.alloc (.cells #[.int .i64 kind] 3)) x) => keep_cell hc0 hb
  have hnew := fun x => new_0 kind x (by omega) (by omega) (by omega)
  have hknew := fun x => cnew_ok kind x hr
  have hadd := fun x (hb : Below w.heap.size w x) => absorbed_any kind hr [] lv ls x (hT.below hb) (hL.below hb) hls
  simp only [List.nil_append] at hadd
  rw [← spK_nil] at hknew
  have hsz0 : (sl 0 (zs 25) 0 false).toArray.size = 28 := by simp [sl_len (zs_len 25)]
  have z1 := spK_size kind []
  have o1 := spK_one kind []
  have z2 := spK_size kind ls.flatten
  have o2 := spK_one kind ls.flatten
  have HT := hide hT
  obtain ⟨la, lc, rfl, _⟩ := id hL
  clear hL hT hls hc0
  generalize hS1 : spK kind [] = S1 at *
  generalize hS2 : spK kind ls.flatten = S2 at *
  have HS2 := hide hS2
  clear hS1 hS2
  go_enter Tryz.func18, Tryz.ntmps18
  go_wp2_with (first
    | (go_at_call 30; refine (hnew _).mono ?_; rintro e x1 ⟨rfl, hb1⟩; have hR1 : (x1.alloc (.cells (hv 0 [0, 0, 0, 0, 0, 0, 0, 0] (.slice none 0 0) 0) 52)).heap[x1.heap.size]? = some (.cells (hv 0 [0, 0, 0, 0, 0, 0, 0, 0] (.slice none 0 0) 0) 52 (0, 0)) := heap_alloc_last x1 _)
    | (refine wpList_store_row rfl 52 _ _ (by rfl) x1.heap.size (hv 0 [0, 0, 0, 0, 0, 0, 0, 0] (.slice none 0 0) 0) (by rfl) (by rfl) _ _ hR1 (by kernel_rfl) rfl (hv_one rfl) ?_; have hb2 := (keep_trans hb1 (keep_alloc x1 (.cells (hv 0 [0, 0, 0, 0, 0, 0, 0, 0] (.slice none 0 0) 0) 52))).trans ((But.setRow (But.refl x1.heap.size (x1.alloc (.cells (hv 0 [0, 0, 0, 0, 0, 0, 0, 0] (.slice none 0 0) 0) 52))) (hv 0 [0, 0, 0, 0, 0, 0, 0, 0] (.slice none 0 0) 0)).below hb1.size (by simp; have := hb1.size; simp at this; omega)); have hc2 := hcc _ hb2)
    | (go_at_call 34; refine (hknew _).mono ?_; rintro e x3 ⟨rfl, hb3⟩; have hR3 : (x3.alloc (.cells (sl 0 (zs 25) 0 false).toArray 59)).heap[x3.heap.size]? = some (.cells (sl 0 (zs 25) 0 false).toArray 59 (0, 0)) := heap_alloc_last x3 _)
    | (refine wpList_store_row rfl 59 _ _ (by rfl) x3.heap.size S1 (by rfl) (by rfl) _ _ hR3 (by rw [z1]; kernel_rfl) (by rw [hsz0, z1]) o1 ?_; have hfu := setRow_heap (x3.alloc (.cells (sl 0 (zs 25) 0 false).toArray 59)) x3.heap.size _ S1 59 _ hR3; have hb4 := (keep_trans (keep_trans hb2 hb3) (keep_alloc x3 (.cells (sl 0 (zs 25) 0 false).toArray 59))).trans ((But.setRow (But.refl x3.heap.size (x3.alloc (.cells (sl 0 (zs 25) 0 false).toArray 59))) S1).below (keep_trans hb2 hb3).size (by simp; have := (keep_trans hb2 hb3).size; simp at this; omega)))
    | (refine wpList_load_row rfl 59 _ (by rfl) x3.heap.size (by rfl) _ _ _ _ hfu Tryz.underlying59 rfl (by rw [z1]; kernel_rfl) ?_)
    | (go_at_call 35; refine (hadd _ (keep_trans hb0 hb4)).mono ?_; rintro e x5 ⟨rfl, hb5⟩; have hB5 := (hb5.block _ (heap_ltY hfu)).trans hfu)
    | (refine wpList_store_row rfl 59 _ _ (by rfl) x3.heap.size S2 (by rfl) (by rfl) _ _ hB5 (by rw [z2]; kernel_rfl) (by rw [z1, z2]) o2 ?_)
    | fail)
  go_ret
  have hBf : But x3.heap.size x5 (x5.setRow x3.heap.size S2) := (But.refl _ _).setRow _
  have hbw := keep_trans hb4 hb5
  have hb6 := hbw.trans (hBf.below (keep_trans hb2 hb3).size hbw.size)
  have hb7 := keep_trans hb0 hb6
  have hfin := setRow_heap x5 x3.heap.size _ S2 59 _ hB5
  rw [← HS2.out] at hfin hb7 hb6 ⊢
  exact ⟨_, _, rfl, dg2 hr hk4 (HT.out.below hb7) hfin (hcc _ hb6), hb7⟩
theorem beh_e (kind : Int) (h1 : 1 ≤ kind) (h7 : kind ≤ 7) (w : World) (hR : Roots w) (hC : Csts w) : BehE kind w := fun x lv ls hb hL hls => by
  by_cases h3 : kind ≤ 3
  · exact beh_sha kind (by omega) lv ls x (hR.below hb) hL hls
  · have hrt : 0 < rateK kind := by
      have h4 : kind = 4 ∨ kind = 5 ∨ kind = 6 ∨ kind = 7 := by omega
      rcases h4 with e | e | e | e <;> subst e <;> decide
    exact beh_kec kind hrt (by omega) lv ls x (hC.below hb) hL hls
end Go.Proofs.YtejlmgbmfeacdaaGreatDoor

/- bytes.Repeat of one byte. -/
namespace Go.Proofs.YtejlmgbmfeacdaaGreatDoor
open Go.RowKit
set_option linter.unusedVariables false
set_option linter.unusedSimpArgs false

/-- copy, as one step of a region that draws -/
theorem step_copy_run {P : Program} {ops : Array Oper} {o : Oper} {a : Act} {w : World} {K : Act → World → Prop} {Q : Exit → Act → World → Prop} {E : Prop} (hg : o.guard = none) (d s : Operand) (t t' : TypeId)
    (ho : o.op = .call { callee := .builtin .copy, args := #[d, s], argTypes := #[t, t'] }) (v u : Value) (hd : a.eval d = v) (hs : a.eval s = u) {v' : Value} {w' : World}
    (hr : (Builtin.copy_ #[t, t'] o.type #[v, u]).run P w = .ok v' w') (hK : K (a.put o.dst v') w') : if Region.wanted o (yielded ops a.tmps) = true then Oper.wp P o a w K Q else E := by
  have hw : Region.wanted o (yielded ops a.tmps) = true := by simp [Region.wanted, hg]
  rw [if_pos hw]
  exact Lib.wp_copy_run w d s t t' ho v u hd hs hr hK
/-- a buffer of N bytes in block h, of which the first k are x -/
structure Rep (w0 wr : World) (h N x k : Nat) : Prop where
  below : Below h w0 wr
  there : ∀ j, j < N → (wr.cell? ⟨h, j, none⟩).isSome = true
  free : ∀ j, j < N → wr.frozen? ⟨h, j, none⟩ = false
  holds : ∀ j, j < k → wr.cell? ⟨h, j, none⟩ = some (.int .u8 (x : Int))
  fits : k ≤ N
def xs8 (m x : Nat) : List Value := List.replicate m (Value.int .u8 (x : Int))
theorem xs8_length (m x : Nat) : (xs8 m x).length = m := by simp [xs8]
theorem xs8_one (m x : Nat) : ∀ u ∈ xs8 m x, u.oneCell' = true := fun u hu => by rw [List.eq_of_mem_replicate hu]; rfl
theorem xs8_get {m x j : Nat} {u : Value} (h : (xs8 m x)[j]? = some u) : j < m ∧ u = .int .u8 (x : Int) := by
  unfold xs8 at h
  rw [List.getElem?_replicate] at h
  split at h
  · exact ⟨by assumption, (Option.some.inj h).symm⟩
  · cases h
theorem Rep.drewN {w0 wr : World} {h N x k : Nat} (hr : Rep w0 wr h N x k) (q : Nat) : Rep w0 (wr.drewN q) h N x k :=
  ⟨below_drewN hr.below q, fun j hj => by rw [World.cell?_drewN]; exact hr.there j hj, fun j hj => by rw [World.frozen?_drewN]; exact hr.free j hj, fun j hj => by rw [World.cell?_drewN]; exact hr.holds j hj, hr.fits⟩
theorem Rep.more {w0 wr : World} {h N x k : Nat} (hr : Rep w0 wr h N x k) {m : Nat} (hm : k + m ≤ N) : Rep w0 (wr.setCells h k (xs8 m x)) h N x (k + m) := by
  have hin := World.cell?_setCells_in h (xs8 m x) k wr (fun j hj => by rw [xs8_length] at hj; exact hr.there _ (by omega))
  have hout := World.cell?_setCells_out h (xs8 m x) k wr
  refine ⟨Lib.below_setCells h (Nat.le_refl _) _ _ hr.below, ?_, fun j hj => by rw [World.frozen?_setCells]; exact hr.free j hj, ?_, hm⟩
  · intro j hj
    by_cases h1 : k ≤ j ∧ j < k + m
    · obtain ⟨d, rfl⟩ : ∃ d, j = k + d := ⟨j - k, by omega⟩
      rw [hin d (by rw [xs8_length]; omega)]
      rfl
    · rw [hout ⟨h, j, none⟩ (fun _ _ => by rw [xs8_length]; show j < _ ∨ _ ≤ j; omega)]
      exact hr.there j hj
  · intro j hj
    by_cases h1 : k ≤ j
    · obtain ⟨d, rfl⟩ : ∃ d, j = k + d := ⟨j - k, by omega⟩
      rw [hin d (by rw [xs8_length]; omega)]
      simp [xs8]
    · rw [hout ⟨h, j, none⟩ (fun _ _ => Or.inl (by show j < k; omega))]
      exact hr.holds j (by omega)
/-- the buffer's beginning, laid behind what is filled -/
theorem Rep.copy {P : Program} {w0 wr : World} {h N x k : Nat} (hr : Rep w0 wr h N x k) (hk : 0 < k) (hlt : k < N) (t ty e : TypeId) (hu : P.underlying t = some (.slice e)) (hs : (P.info? e).map (·.size) = some 1) :
    (Builtin.copy_ #[t, t] ty #[Lib.tailV h N k, .slice (some ⟨h, 0, none⟩) k N]).run P wr = .ok (.int .i64 ((min k (N - k) : Nat) : Int)) (wr.setCells h k (xs8 (min k (N - k)) x)) := by
  have := run_copy_cells (P := P) wr t t ty e h k (N - k) (N - k) ⟨h, 0, none⟩ k N (xs8 (min k (N - k)) x) hu hs (by rw [xs8_length])
    (fun j u hj => by
      obtain ⟨h1, rfl⟩ := xs8_get hj
      rw [Addr.add_lit, Nat.zero_add]
      exact hr.holds j (by omega))
    (fun j hj => by rw [xs8_length] at hj; exact hr.there _ (by omega)) (fun j hj => by rw [xs8_length] at hj; exact hr.free _ (by omega)) (xs8_one _ _)
  rw [xs8_length] at this
  unfold Lib.tailV
  rw [if_neg (by omega)]
  exact this
theorem Rep.row {w0 wr : World} {N x : Nat} (hr : Rep w0 wr w0.heap.size N x N) (hx : x < 256) (hN : N ≤ maxLen) : Row .u8 256 wr (.slice (some ⟨w0.heap.size, 0, none⟩) N N) (List.replicate N x) := by
  have hl : (List.replicate N x).length = N := List.length_replicate
  refine ⟨_, N, by rw [hl], by rw [hl]; exact Nat.le_refl _, hN, fun _ => ⟨_, 0, rfl, fun i hi => ?_⟩, fun y hy => by rw [List.eq_of_mem_replicate hy]; exact hx⟩
  rw [hl] at hi
  rw [Nat.zero_add, hr.holds i hi, el_at (by rw [hl]; exact hi), List.getElem_replicate]

set_option maxHeartbeats 4000000 in
set_option maxRecDepth 100000 in
theorem rep_of (va : Value) (N x : Nat) (w : World) (ha : Row .u8 256 w va [x]) (hN0 : 0 < N) (hN : N ≤ 1000)
    (hmul : ∀ y, Calls Tryz.prog 68 #[.int .u64 1, .int .u64 (N : Int)] y fun e y' => e = .returned (.tuple #[.int .u64 0, .int .u64 (N : Int)]) ∧ y' = y) :
    Calls Tryz.prog 46 #[va, .int .i64 (N : Int)] w fun e w' => ∃ v, e = .returned v ∧ Row .u8 256 w' v (List.replicate N x) ∧ New w.heap.size v ∧ Below w.heap.size w w' := by
  have hx := ha.under x (by simp)
  obtain ⟨a, ca, rfl, ha1, ha2, ha3, _⟩ := ha
  obtain ⟨b, off, rfl, hc⟩ := ha3 (by simp)
  have c0 := hc 0 (by simp)
  have el0 : el [x] 0 = x := rfl
  rw [el0] at c0
  rw [List.length_singleton]
  rw [List.length_singleton] at ha1
  have hs5 : (Tryz.prog.info? 5).map (·.size) = some 1 := by
    obtain ⟨i0, hi, hz0, hz1, hz2⟩ := info_parts Tryz.info5
    rw [hi]; simp [hz1]
  have n0 : ((N : Int) == 0) = false := by rw [beq_eq_false_iff_ne]; omega
  have n1 : ¬ (N : Int) < 0 := by omega
  have n2 : ¬ (9223372036854775807 : Int) < (N : Int) := by omega
  have n3 : ¬ (8192 : Int) < (N : Int) := by omega
  have s_N : IntKind.i64.wrap (N : Int) = (N : Int) := by rw [IntKind.wrap_i64]; omega
  have u_N : IntKind.u64.wrap (N : Int) = (N : Int) := by rw [IntKind.wrap_u64]; omega
  obtain ⟨cs, hrunM, hle, _⟩ := Lib.run_makeNoZero (P := Tryz.prog) w #[3] 22 5 Tryz.underlying22 N (by omega)
  have hcall : (callFunc 69 #[.int .i64 (N : Int)]).run Tryz.prog w = .ok (.value (.slice (some ⟨w.heap.size, 0, none⟩) N cs.size)) ((w.alloc (.cells cs 5)).drewN 2) := by
    rw [run_callFunc_extern Tryz.func69 (by kernel_rfl) (by kernel_rfl) (by kernel_rfl) (e := Extern.BytealgMakeNoZero.makeNoZero #[3] #[22]) (by kernel_rfl), hrunM]
    rfl
  clear hrunM
  have i0 : (0 : Int) ≤ (N : Int) := by omega
  have i1 : (N : Int) ≤ (cs.size : Int) := by omega
  have B0 := Lib.Buf.start w cs 5 N 2 hle
  have R0 : Rep w ((w.alloc (.cells cs 5)).drewN 2) w.heap.size N x 0 := ⟨B0.below, B0.there, B0.free, fun j hj => by omega, Nat.zero_le _⟩
  have R1 := R0.more (m := 1) (by omega)
  have hr1 := run_copy_cells (P := Tryz.prog) ((w.alloc (.cells cs 5)).drewN 2) 22 22 3 5 w.heap.size 0 N N ⟨b, off, none⟩ 1 ca (xs8 1 x) Tryz.underlying22 hs5 (by rw [xs8_length]; exact (Nat.min_eq_left (by omega)).symm)
    (fun j u hj => by
      obtain ⟨h1, rfl⟩ := xs8_get hj
      obtain rfl : j = 0 := by omega
      exact Lib.Below.cellOf R0.below c0 (Nat.le_refl _))
    (fun j hj => by rw [xs8_length] at hj; exact R0.there _ (by omega)) (fun j hj => by rw [xs8_length] at hj; exact R0.free _ (by omega)) (xs8_one _ _)
  rw [xs8_length] at hr1
  have HR1 := hide R1
  clear R1 R0 B0 hc ha3 c0
  generalize ((w.alloc (.cells cs 5)).drewN 2).setCells w.heap.size 0 (xs8 1 x) = w1 at *
  go_enter Tryz.func46, Tryz.ntmps46
  go_wp2_with (first
    | (go_at_call 68; refine (hmul _).mono ?_; rintro e y ⟨rfl, hy⟩; obtain rfl := hy.symm)
    | (at_builtin; refine Lib.wpList_copy_run _ rfl _ _ 22 22 rfl _ _ rfl rfl hr1 ?_)
    | fail)
  clear hr1 hcall
  go_loopw [10] (fun p wr => ∃ k : Nat, 0 < k ∧ p = .int .i64 (k : Int) ∧ Hid (Rep w wr w.heap.size N x k)) (fun p _ => N - (intOf p).toNat)
  case atStart => exact ⟨1, by decide, rfl, HR1⟩
  case round =>
    obtain ⟨k, hk, rfl, HR⟩ := hrel
    have hkN := HR.out.fits
    clear HR1
    by_cases hlt : k < N
    · have k1 : (k : Int) < (N : Int) := by omega
      have k2 : ¬ (N : Int) < (k : Int) := by omega
      have k3 : ¬ N < k := by omega
      have k0 : (0 : Int) ≤ (k : Int) := by omega
      have mn : min (k : Int) (N : Int) = (k : Int) := by omega
      have hsl1 : ∀ W, (Instr.slice 22 (.slice (some ⟨w.heap.size, 0, none⟩) N N) (some (.int .i64 (k : Int))) none none).run Tryz.prog W = .ok (Lib.tailV w.heap.size N k) W := fun W => Lib.run_slice_tailV W 22 5 Tryz.underlying22 Tryz.sizeOf5 _ N k (by omega)
      have hcp := fun y (hy : Rep w y w.heap.size N x k) => Rep.copy (P := Tryz.prog) hy hk hlt 22 3 5 Tryz.underlying22 hs5
      have hmo := fun y (hy : Rep w y w.heap.size N x k) => Rep.more hy (m := min k (N - k)) (by omega)
      have HM1 : Hid (k < k + min k (N - k) ∧ k + min k (N - k) ≤ N) := hide ⟨by omega, by omega⟩
      generalize min k (N - k) = m at *
      obtain ⟨k', hk'⟩ : ∃ z : Nat, z = k + m := ⟨_, rfl⟩
      rw [← hk'] at hmo HM1
      have e_k : (k : Int) + (m : Int) = (k' : Int) := by omega
      have hkl := HM1.out
      have s_k : IntKind.i64.wrap (k' : Int) = (k' : Int) := by rw [IntKind.wrap_i64]; omega
      clear hk' hkl
      go_wp2_with fail
      go_region_law (refine step_copy_run rfl (.tmp 70) (.tmp 73) 22 22 rfl (Lib.tailV w.heap.size N k) (.slice (some ⟨w.heap.size, 0, none⟩) k N) (by simp [Act.eval, Act.put]) (by simp [Act.eval, Act.put]) (hcp _ (by first | exact HR.out | exact HR.out.drewN 1)) ?_)
      all_goals
        have HR2 := hide (hmo wr.drew (HR.out.drewN 1))
        simp (config := { zetaDelta := true }) only [Exit.inBlock, Exit.then]
        refine ⟨?_, ?measure⟩
        case measure => simp [intOf, Act.put, e_k, s_k]; have := HM1.out; omega
        exact ⟨_, _, _, _, _, _, _, _, _, _, _, _, _, _, _, _, _, ⟨k', by have := HM1.out; omega, rfl, HR2⟩, by simp [Act.put, e_k, s_k]; (repeat' (first | rfl | apply And.intro))⟩
    · obtain rfl : k = N := by omega
      go_wp2
      go_ret
      exact ⟨_, rfl, HR.out.row hx (by unfold maxLen; omega), New.at (Nat.le_refl _), HR.out.below⟩
end Go.Proofs.YtejlmgbmfeacdaaGreatDoor

/- bytes.Repeat at the blocks there are. -/
namespace Go.Proofs.YtejlmgbmfeacdaaGreatDoor
open Go.RowKit
set_option linter.unusedVariables false
set_option linter.unusedSimpArgs false

set_option maxHeartbeats 2000000 in
set_option maxRecDepth 100000 in
theorem mul_64 (y : World) : Calls Tryz.prog 68 #[.int .u64 1, .int .u64 64] y fun e y' => e = .returned (.tuple #[.int .u64 0, .int .u64 64]) ∧ y' = y := by
  go_enter Tryz.func68, Tryz.ntmps68
  go_wp2
  go_ret2
  exact ⟨rfl, rfl⟩
set_option maxHeartbeats 2000000 in
set_option maxRecDepth 100000 in
theorem mul_128 (y : World) : Calls Tryz.prog 68 #[.int .u64 1, .int .u64 128] y fun e y' => e = .returned (.tuple #[.int .u64 0, .int .u64 128]) ∧ y' = y := by
  go_enter Tryz.func68, Tryz.ntmps68
  go_wp2
  go_ret2
  exact ⟨rfl, rfl⟩
set_option maxHeartbeats 2000000 in
set_option maxRecDepth 100000 in
theorem mul_136 (y : World) : Calls Tryz.prog 68 #[.int .u64 1, .int .u64 136] y fun e y' => e = .returned (.tuple #[.int .u64 0, .int .u64 136]) ∧ y' = y := by
  go_enter Tryz.func68, Tryz.ntmps68
  go_wp2
  go_ret2
  exact ⟨rfl, rfl⟩
set_option maxHeartbeats 2000000 in
set_option maxRecDepth 100000 in
theorem mul_72 (y : World) : Calls Tryz.prog 68 #[.int .u64 1, .int .u64 72] y fun e y' => e = .returned (.tuple #[.int .u64 0, .int .u64 72]) ∧ y' = y := by
  go_enter Tryz.func68, Tryz.ntmps68
  go_wp2
  go_ret2
  exact ⟨rfl, rfl⟩
theorem rep_blk (kind : Int) (va : Value) (x : Nat) (w : World) (ha : Row .u8 256 w va [x]) (h1 : 1 ≤ kind) (h5 : kind ≤ 5) :
    Calls Tryz.prog 46 #[va, .int .i64 (blkD kind : Nat)] w fun e w' => ∃ v, e = .returned v ∧ Row .u8 256 w' v (List.replicate (blkD kind) x) ∧ New w.heap.size v ∧ Below w.heap.size w w' := by
  have hk : kind = 1 ∨ kind = 2 ∨ kind = 3 ∨ kind = 4 ∨ kind = 5 := by omega
  rcases hk with h | h | h | h | h <;> subst h
  · exact rep_of va 64 x w ha (by decide) (by decide) (fun y => mul_64 y)
  · exact rep_of va 128 x w ha (by decide) (by decide) (fun y => mul_128 y)
  · exact rep_of va 128 x w ha (by decide) (by decide) (fun y => mul_128 y)
  · exact rep_of va 136 x w ha (by decide) (by decide) (fun y => mul_136 y)
  · exact rep_of va 72 x w ha (by decide) (by decide) (fun y => mul_72 y)
end Go.Proofs.YtejlmgbmfeacdaaGreatDoor
