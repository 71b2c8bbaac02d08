/- The closed case that each statement asks for. -/
import Derived.Test.YthgjjlllifcegaaFault
namespace Go.Proofs.Ythgjjlllifcegaa
open Go.RowKit

end Go.Proofs.Ythgjjlllifcegaa
