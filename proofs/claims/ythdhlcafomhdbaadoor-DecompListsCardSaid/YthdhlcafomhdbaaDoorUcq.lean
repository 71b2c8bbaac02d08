/- The document's Quickly, Starts. -/
import Derived.Test.YthdhlcafomhdbaaDoorUcp
namespace Go.Proofs.YthdhlcafomhdbaaDoor
open Go.RowKit

end Go.Proofs.YthdhlcafomhdbaaDoor
