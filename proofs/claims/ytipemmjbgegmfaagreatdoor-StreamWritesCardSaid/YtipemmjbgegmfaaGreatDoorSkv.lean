/- Stage 10: the program's stream, and the document's (for the seat of StreamWrites, StreamFroms). -/
import Derived.Test.YtipemmjbgegmfaaGreatDoorSky
import Derived.Test.YtipemmjbgegmfaaGreatDoorSvw
import Derived.Test.YtipemmjbgegmfaaGreatDoorStk
import Derived.Test.YtipemmjbgegmfaaGreatDoorStg
import Derived.Test.YtipemmjbgegmfaaGreatDoorRwo
namespace Go.Proofs.YtipemmjbgegmfaaGreatDoor
end Go.Proofs.YtipemmjbgegmfaaGreatDoor
