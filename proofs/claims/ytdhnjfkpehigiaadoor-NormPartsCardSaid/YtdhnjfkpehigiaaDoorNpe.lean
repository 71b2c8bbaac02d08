/- Stage 8: the walks and the program together. -/
import Derived.Test.YtdhnjfkpehigiaaDoorNowk
import Derived.Test.YtdhnjfkpehigiaaDoorNpr
import Derived.Test.YtdhnjfkpehigiaaDoorLdh
namespace Go.Proofs.YtdhnjfkpehigiaaDoor
end Go.Proofs.YtdhnjfkpehigiaaDoor
