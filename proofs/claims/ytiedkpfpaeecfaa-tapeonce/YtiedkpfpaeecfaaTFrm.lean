/- How a tape that came in is read, and a slice of ints. -/
import Derived.Test.YtiedkpfpaeecfaaOwn
import Derived.Test.YtiedkpfpaeecfaaBase
import Derived.Test.YtiedkpfpaeecfaaTpM
import Derived.SizedLaws
namespace Go.Proofs.Ytiedkpfpaeecfaa
open Go.ChangeShapes Go.WideShapes Go.ChangeAt Go.RowKit Go.Deep
set_option linter.unusedVariables false
set_option linter.unusedSimpArgs false

theorem Try.cellsTp : Try.prog.cellsOf 24 = 2 := by kernel_rfl
theorem Try.cellsIntT : Try.prog.cellsOf 3 = 1 := by kernel_rfl
/-- a tape, as it came in -/
structure TIs (w : World) (cs : Array Value) (tv : Value) (tl : List Nat) (tx : Int) : Prop where
  is : cs = #[tv, .int .i64 tx]
  kmin : -9223372036854775808 ≤ tx
  kmax : tx ≤ 9223372036854775807
  row : Row .u8 256 w tv tl
  tidy : Tidy tv
theorem read_tape {H : Type} {enc : TypeId × Value → H} {W : World} {fuel : Nat} {cs : Array Value} {x : DataW H × List MemPlace}
    (h : DataW.trod enc Try.prog W 0 (fun _ => true) true fuel 24 cs.toList = some x) : ∃ tv tl tx, TIs W cs tv tl tx := by
  obtain ⟨l⟩ := cs
  obtain ⟨xs, n, _, _, hcl, hlen, hf⟩ := DataW.trod_struct Try.underlying24 h
  rw [Try.cellsTp] at hcl
  match l, hcl with
  | [c0, c1], _ =>
    have hlen' : xs.length = 2 := hlen
    match xs, hlen' with
    | [y0, y1], _ =>
      have g0 := hf 0 _ rfl
      have g1 := hf 1 _ rfl
      simp [Try.cellsIntT, Try.cells22] at g0 g1
      obtain ⟨t, e0, _, hw⟩ := DataW.trod_int Try.underlying3 g1
      have hk := wf_i64 t hw
      obtain ⟨tl, hrow, htd⟩ := read_text g0
      simp at e0
      exact ⟨c0, tl, t, by rw [e0], hk.1, hk.2, hrow, htd⟩
theorem Try.bytes3 : Try.prog.bytesOf 3 = 8 := by kernel_rfl
/-- a text that is read, no longer than a machine's reach -/
theorem read_textz {H : Type} {enc : TypeId × Value → H} {W : World} {fuel : Nat} {v : Value} {x : DataW H × List MemPlace}
    (h : DataW.trod enc Try.prog W 0 (fun _ => true) true fuel 22 [v] = some x) (hw : ∀ n ∈ x.1.weights Try.prog 22, n ≤ reachBytes) : ∃ l, Row .u8 256 W v l ∧ Tidy v ∧ l.length ≤ 140737488351232 := by
  rcases open_ints Try.underlying22 Try.underlying5 (by kernel_rfl) h with ⟨hcs, _⟩ | ⟨a, len, cap, zs, hcs, _, hl, hm, hz, hx, hcell, hwz⟩
  · simp at hcs
    subst hcs
    exact ⟨[], Row.nil _ _ _, fun n c he => by simp at he; omega, Nat.zero_le _⟩
  · simp at hcs
    subst hcs
    have hz' : zs.length = cap := by simpa using hz
    have hr : IsRow .u8 W (some a) len cap zs := .inr ⟨a, rfl, hl, hm, hz', hcell, hwz⟩
    obtain ⟨l, hll, hrow⟩ := hr.row wf_u8
    refine ⟨l, hrow, fun n c he => by simp at he, ?_⟩
    have := hw (((lits (H := H) .u8 (zs.take len)).length + (lits (H := H) .u8 (zs.drop len)).length) * Try.prog.bytesOf 5) (by rw [hx]; simp [DataW.weights, Try.underlying22])
    rw [Try.bytes5] at this
    simp only [lits, List.length_map, List.length_take, List.length_drop, reachBytes] at this
    omega
/-- a tape, no longer than a machine's reach -/
structure TIz (w : World) (cs : Array Value) (tv : Value) (tl : List Nat) (tx : Int) : Prop where
  tape : TIs w cs tv tl tx
  len : tl.length ≤ 140737488351232
theorem read_tapez {H : Type} {enc : TypeId × Value → H} {W : World} {fuel : Nat} {cs : Array Value} {d : DataW H} {pl : List MemPlace} {ts : List TypeId} {ds : List (DataW H)} (hsz : (DataW.weightsEach Try.prog ts ds).all (· ≤ reachBytes) = true) {j : Nat} (ht : ts[j]? = some 24) (hd : ds[j]? = some d)
    (h : DataW.trod enc Try.prog W 0 (fun _ => true) true fuel 24 cs.toList = some (d, pl)) : ∃ tv tl tx, TIz W cs tv tl tx := by
  have hws := fun n hn => List.all_eq_true.1 hsz n (DataW.weights_mem_each ht hd n hn)
  obtain ⟨l⟩ := cs
  obtain ⟨xs, n, _, hx, hcl, hlen, hf⟩ := DataW.trod_struct Try.underlying24 h
  have hde := (Prod.mk.inj hx).1
  rw [Try.cellsTp] at hcl
  match l, hcl with
  | [c0, c1], _ =>
    have hlen' : xs.length = 2 := hlen
    match xs, hlen' with
    | [y0, y1], _ =>
      have g0 := hf 0 _ rfl
      have g1 := hf 1 _ rfl
      simp [Try.cellsIntT, Try.cells22] at g0 g1
      obtain ⟨t, e0, _, hw⟩ := DataW.trod_int Try.underlying3 g1
      have hk := wf_i64 t hw
      obtain ⟨tl, hrow, htd, hl⟩ := read_textz g0 (fun m hm => by
        have := hws m (by
          rw [hde]
          simp only [DataW.weights, Try.underlying24, List.map_cons, List.map_nil, DataW.weightsEach, List.mem_append]
          exact .inl hm)
        simpa using this)
      simp at e0
      exact ⟨c0, tl, t, ⟨by rw [e0], hk.1, hk.2, hrow, htd⟩, hl⟩
/-- a slice of ints that came in -/
theorem IsRow.rowI {w : World} {a : Option Addr} {len cap : Nat} {zs : List Int} (h : IsRow .i64 w a len cap zs) : ∃ ks : List Int, ks.length = len ∧ RowI w (.slice a len cap) ks := by
  rcases h with ⟨rfl, rfl, rfl, rfl⟩ | ⟨x, rfl, hl, hm, hz, hc, hw⟩
  · exact ⟨[], rfl, none, 0, rfl, Nat.le_refl _, Nat.zero_le _, fun h => by simp at h, fun k hk => by simp at hk⟩
  · refine ⟨zs.take len, by simp; omega, some x, cap, by simp; omega, by simp; omega, hm, fun hp => ?_, fun k hk => wf_i64 k (hw k (List.mem_of_mem_take hk))⟩
    obtain ⟨b, off, spot⟩ := x
    have hp' : 0 < zs.length := by simp at hp; omega
    have hspot : spot = none := by simpa [Addr.add] using World.cell?_spot (hc 0 hp')
    subst hspot
    refine ⟨b, off, rfl, fun i hi => ?_⟩
    have hi' : i < len ∧ i < zs.length := by simp at hi; omega
    have h1 := hc i hi'.2
    rw [Addr.add_lit] at h1
    rw [h1]
    simp [List.getD, List.getElem?_take, hi'.1]
end Go.Proofs.Ytiedkpfpaeecfaa

/- Contract of apostilleref01.Same. -/
namespace Go.Proofs.Ytiedkpfpaeecfaa
open Go.RowKit
set_option linter.unusedVariables false

theorem el_ext {l m : List Nat} (h : l.length = m.length) (he : ∀ i, i < l.length → el l i = el m i) : l = m := by
  apply List.ext_getElem h
  intro i h1 h2
  have := he i h1
  rwa [el_at h1, el_at h2] at this

set_option maxHeartbeats 400000 in
theorem rsame_any (va vb : Value) (l m : List Nat) (w : World) (ha : Row .u8 256 w va l) (hb : Row .u8 256 w vb m) :
    Calls Try.prog 15 #[va, vb] w fun e w' => e = .returned (.bool (decide (l = m))) ∧ ∃ n, w' = w.drewN n := by
  obtain ⟨a, ca, rfl, ha1, ha2, ha3, ha4⟩ := ha
  obtain ⟨b, cb, rfl, hb1, hb2, hb3, hb4⟩ := hb
  unfold maxLen at ha2 hb2
  by_cases hlen : l.length = m.length
  · have hne : ((l.length : Int) != (m.length : Int)) = false := by simp [hlen]
    have H : Hid (l.length = m.length) := hlen
    have hle1 : l.length ≤ m.length := by omega
    have hle2 : m.length ≤ l.length := by omega
    clear hlen
    go_enter Try.func15, Try.ntmps15
    go_wp2
    go_loopw [5] (fun i wr => ∃ k n : Nat, k ≤ l.length ∧ i = .int .i64 k ∧ wr = w.drewN n ∧ ∀ j, j < k → el l j = el m j) (fun i _ => l.length - (intOf i).toNat)
    case atStart => exact ⟨0, 0, Nat.zero_le _, rfl, rfl, fun j hj => by omega⟩
    case round =>
      obtain ⟨k, n, hk, rfl, rfl, hall⟩ := hrel
      have HA : Hid (∀ j, j < k → el l j = el m j) := hall
      clear hall
      by_cases hlt : k < l.length
      · obtain ⟨ba, oa, rfl, hca⟩ := ha3 (by omega)
        obtain ⟨bb, ob, rfl, hcb⟩ := hb3 (by omega)
        have c1 := hca k hlt
        have c2 := hcb k (by omega)
        clear hca hcb
        have hlt2 : k < m.length := by omega
        by_cases he : el l k = el m k
        · have hd : ((el l k : Int) != (el m k : Int)) = false := by simp [he]
          have HE : Hid (el l k = el m k) := he
          clear he
          go_wp2
          go_quiet (fail)
          go_wp2
          go_roundw
          case rel => exact ⟨k + 1, _, by omega, by go_num, rfl, fun j hj => by
            by_cases hjk : j = k
            · subst hjk; exact HE.out
            · exact HA.out j (by omega)⟩
          case measure => simp [intOf]; omega
        · have hd : ((el l k : Int) != (el m k : Int)) = true := by simp; omega
          go_wp2
          go_quiet (fail)
          go_wp2
          go_ret
          exact ⟨ret_bool (by symm; simp; intro h; exact he (by rw [h])), _, World.drewN_drewN _ _ _⟩
      · go_wp2
        go_ret
        exact ⟨ret_bool (by symm; simp; exact el_ext H.out (fun i hi => HA.out i (by omega))), _, rfl⟩
  · have hne : ((l.length : Int) != (m.length : Int)) = true := by simp; omega
    have hd : decide (l = m) = false := by simp; intro h; exact hlen (by rw [h])
    go_enter Try.func15, Try.ntmps15
    go_wp2
    go_ret
    exact ⟨ret_bool hd.symm, 0, rfl⟩

end Go.Proofs.Ytiedkpfpaeecfaa
