/- code.Fault: how many right bytes, at the most, bytes begin with. -/
import Derived.Test.YthgjjlllifcegaaOne
namespace Go.Proofs.Ythgjjlllifcegaa
open Go.RowKit

end Go.Proofs.Ythgjjlllifcegaa
