/- Stage 7: the walks and the program together. -/
import Derived.Test.YtnmcdiiiikbkaaaDoorCowk
import Derived.Test.YtnmcdiiiikbkaaaDoorCpr
import Derived.Test.YtnmcdiiiikbkaaaDoorOpr
import Derived.Test.YtnmcdiiiikbkaaaDoorEaa
import Derived.Test.YtnmcdiiiikbkaaaDoorLdh
namespace Go.Proofs.YtnmcdiiiikbkaaaDoor
end Go.Proofs.YtnmcdiiiikbkaaaDoor
