/- The program's decomp, and the walks of stage 5. -/
import Derived.Test.YthdhlcafomhdbaaDoorEas
import Derived.Test.YthdhlcafomhdbaaDoorDwk
namespace Go.Proofs.YthdhlcafomhdbaaDoor
end Go.Proofs.YthdhlcafomhdbaaDoor
