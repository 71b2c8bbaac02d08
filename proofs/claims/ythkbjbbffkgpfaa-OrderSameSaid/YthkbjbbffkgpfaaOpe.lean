/- The statements of stage 6 over the program's order. -/
import Derived.Test.YthkbjbbffkgpfaaOpd
import Derived.Test.YthkbjbbffkgpfaaOrwk
namespace Go.Proofs.Ythkbjbbffkgpfaa
end Go.Proofs.Ythkbjbbffkgpfaa
