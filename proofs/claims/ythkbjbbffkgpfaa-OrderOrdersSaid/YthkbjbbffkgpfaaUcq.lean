/- The document's Quickly, Starts. -/
import Derived.Test.YthkbjbbffkgpfaaUcp
namespace Go.Proofs.Ythkbjbbffkgpfaa
open Go.RowKit

end Go.Proofs.Ythkbjbbffkgpfaa
