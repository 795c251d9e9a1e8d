/- Contracts of apostilleref02.Same, slices.Equal over identifiers, oid.Same. -/
import Derived.Test.YtjkciheoknjfhaaDoorOByt
import Derived.Test.YtjkciheoknjfhaaDoorDTag
namespace Go.Proofs.YtjkciheoknjfhaaDoor
open Go.RowKit
set_option linter.unusedVariables false

end Go.Proofs.YtjkciheoknjfhaaDoor
