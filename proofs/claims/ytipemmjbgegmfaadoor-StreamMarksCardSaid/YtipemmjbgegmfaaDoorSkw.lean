/- Stage 10: the program's stream, and the laws over two rows (for the seat of StreamWhole, StreamMarks, StreamHolds). -/
import Derived.Test.YtipemmjbgegmfaaDoorSky
import Derived.Test.YtipemmjbgegmfaaDoorStw
import Derived.Test.YtipemmjbgegmfaaDoorStm
import Derived.Test.YtipemmjbgegmfaaDoorSth
import Derived.Test.YtipemmjbgegmfaaDoorStg
import Derived.Test.YtipemmjbgegmfaaDoorRwo
namespace Go.Proofs.YtipemmjbgegmfaaDoor
end Go.Proofs.YtipemmjbgegmfaaDoor
