/- The closed case that each statement asks for. -/
import Derived.Test.YtdhnjfkpehigiaaDoorFault
namespace Go.Proofs.YtdhnjfkpehigiaaDoor
open Go.RowKit

end Go.Proofs.YtdhnjfkpehigiaaDoor
