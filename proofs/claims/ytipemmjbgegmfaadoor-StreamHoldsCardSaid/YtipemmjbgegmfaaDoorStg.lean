/- Stage 10: what the rows' lists of variables give a stream: its ground. -/
import Derived.Test.YtipemmjbgegmfaaDoorStq
import Derived.Test.YtipemmjbgegmfaaDoorLdh
namespace Go.Proofs.YtipemmjbgegmfaaDoor
theorem ground_h : Ground HRows := fun _ _ h u => h.up u

end Go.Proofs.YtipemmjbgegmfaaDoor
