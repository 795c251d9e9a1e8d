/- Keys of chains: the document's wrong and Digits. -/
import Derived.Test.YtpmobjfhhkglbaaWtA
import Derived.Test.YtpmobjfhhkglbaaWtM
import Derived.Test.YtpmobjfhhkglbaaKit
import Derived.Test.YtpmobjfhhkglbaaPgF
import Derived.Deep.DeepCutAuto
import Derived.Test.YtpmobjfhhkglbaaMNew
import Derived.Test.YtpmobjfhhkglbaaHHsh
import Derived.Test.YtpmobjfhhkglbaaHKit
import Derived.Laws.ShiftsVarLaws
import Derived.BigRegion
import Derived.Deep.AppendLies
import Derived.ArgAppend
import Derived.Test.YtpmobjfhhkglbaaNum
import Derived.Test.YtpmobjfhhkglbaaHKi2
import Derived.Test.YtpmobjfhhkglbaaTex
import Derived.Laws.AppendOwnNone
import Derived.Test.YtpmobjfhhkglbaaHFit0
import Derived.Test.YtpmobjfhhkglbaaHaM
import Derived.Test.YtpmobjfhhkglbaaBe
import Derived.Test.YtpmobjfhhkglbaaJoin
import Derived.Test.YtpmobjfhhkglbaaSame
import Derived.KernelRfl
import Derived.Lib.MinMax
import Derived.Deep.RegionLaw
import Derived.Test.YtpmobjfhhkglbaaKSg
import Derived.Deep.Onto
import Derived.Deep.RegionHeld3
import Derived.Test.YtpmobjfhhkglbaaDig
namespace Go.Proofs.Ytpmobjfhhkglbaa
open Go.RowKit
set_option linter.unusedVariables false
set_option linter.unusedSimpArgs false

theorem el_le_ofW {K : Nat} {l : List Nat} (h : ∀ x ∈ l, x < 2 ^ K) (i : Nat) : el l i ≤ 2 ^ K - 1 := by
  by_cases hi : i < l.length
  · rw [el_at hi]; have := h _ (List.getElem_mem hi); omega
  · unfold el; rw [List.getElem?_eq_none (by omega)]; exact Nat.zero_le _
theorem digS_natW (l : List Nat) (w c : Nat) (h1 : 1 ≤ w) (h2 : w ≤ 24) (h3 : c * w ≤ 8 * l.length) : digS l (w : Int) (c : Int) = digL l w c := by
  unfold digS
  rw [if_pos (okB_mk h1 h2 h3)]
  rfl
theorem lack_takeW {m i : Nat} {l : List Nat} (h : i < l.length) : lackL m (l.take (i + 1)) = lackL m (l.take i) + (m - el l i) := by
  rw [List.take_succ_eq_append_getElem h, lack_snoc, el_at h]
end Go.Proofs.Ytpmobjfhhkglbaa
