/- Pairs and what is composed again: each is the other. -/
import Derived.Test.YthkbjbbffkgpfaaUcd
namespace Go.Proofs.Ythkbjbbffkgpfaa
open Go.RowKit

end Go.Proofs.Ythkbjbbffkgpfaa
