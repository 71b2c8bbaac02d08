/- Stage 10: what the rows' lists of variables give a stream: its ground. -/
import Derived.Test.YtipemmjbgegmfaaGreatDoorStq
import Derived.Test.YtipemmjbgegmfaaGreatDoorLdh
namespace Go.Proofs.YtipemmjbgegmfaaGreatDoor
theorem ground_h : Ground HRows := fun _ _ h u => h.up u

end Go.Proofs.YtipemmjbgegmfaaGreatDoor
