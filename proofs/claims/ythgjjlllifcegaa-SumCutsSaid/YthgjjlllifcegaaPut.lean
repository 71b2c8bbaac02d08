/- Put: the bytes of a code point. -/
import Derived.Test.YthgjjlllifcegaaPre
namespace Go.Proofs.Ythgjjlllifcegaa
open Go.RowKit

end Go.Proofs.Ythgjjlllifcegaa
