/- OrderFull over the program's order and decomp. -/
import Derived.Test.YtjgeghfaahfccaaDoorOrf
import Derived.Test.YtjgeghfaahfccaaDoorOpr
import Derived.Test.YtjgeghfaahfccaaDoorEaa
import Derived.Test.YtjgeghfaahfccaaDoorLdh
namespace Go.Proofs.YtjgeghfaahfccaaDoor
end Go.Proofs.YtjgeghfaahfccaaDoor
