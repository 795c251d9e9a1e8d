/- Leaves that sign once: the document's Kind, Size, H, part, chain, key, digest. -/
import Derived.Test.YtpmobjfhhkglbaaMNew
import Derived.Test.YtpmobjfhhkglbaaHHsh
import Derived.Test.YtpmobjfhhkglbaaHKit
import Derived.Laws.ShiftsVarLaws
import Derived.BigRegion
import Derived.Deep.AppendLies
import Derived.ArgAppend
import Derived.Test.YtpmobjfhhkglbaaNum
import Derived.Test.YtpmobjfhhkglbaaHKi2
import Derived.Test.YtpmobjfhhkglbaaKit
import Derived.Test.YtpmobjfhhkglbaaTex
import Derived.Laws.AppendOwnNone
import Derived.Test.YtpmobjfhhkglbaaHFit0
import Derived.Test.YtpmobjfhhkglbaaHaM
import Derived.Test.YtpmobjfhhkglbaaBe
import Derived.Test.YtpmobjfhhkglbaaJoin
import Derived.Test.YtpmobjfhhkglbaaSame
import Derived.KernelRfl
import Derived.Lib.MinMax
import Derived.Deep.RegionLaw
import Derived.Test.YtpmobjfhhkglbaaLmC
import Derived.Test.YtpmobjfhhkglbaaPApp
namespace Go.Proofs.Ytpmobjfhhkglbaa
open Go.RowKit
set_option linter.unusedVariables false
set_option linter.unusedSimpArgs false

theorem texts_cons {w : World} {u : Value} {x : List Nat} {us : List Value} {ls : List (List Nat)} (h : Row .u8 256 w u x) (t : Tidy u) (k : Texts w us ls) : Texts w (u :: us) (x :: ls) := (Texts.one h t).append k
theorem rows_litL {w : World} {us : List Value} {ls : List (List Nat)} {B k : Nat} (h : Texts w us ls) (hB : w.heap.size = B) (hk : ls.length = k) (hl : k ≤ 1000) : Rows2 (w.alloc (.cells us.toArray 25)) (.slice (some ⟨B, 0, none⟩) k k) ls := by
  subst hB hk
  refine ⟨_, ls.length, rfl, Nat.le_refl _, by unfold maxLen; omega, fun _ => ⟨_, _, rfl, fun i hi => ?_⟩⟩
  have hb := keep_alloc w (.cells us.toArray 25)
  obtain ⟨u, hu, hr, ht⟩ := h.2 i hi
  refine ⟨u, ?_, hr.below hb, ht⟩
  rw [World.cell?_alloc_at _ _ _ _ rfl, Nat.zero_add]
  simpa using hu
end Go.Proofs.Ytpmobjfhhkglbaa
