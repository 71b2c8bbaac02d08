/- The document's Decomp, Composes, Second, Pair, Quickly, Starts. -/
import Derived.Test.YthkbjbbffkgpfaaUcr
import Derived.OwnWalk
namespace Go.Proofs.Ythkbjbbffkgpfaa
open Go.RowKit

end Go.Proofs.Ythkbjbbffkgpfaa
