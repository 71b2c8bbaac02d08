/- Stage 9: the walks, and that the program's sum does what is asked, in one. -/
import Derived.Test.YthgjjlllifcegaaSuk
import Derived.Test.YthgjjlllifcegaaSud
import Derived.Test.YthgjjlllifcegaaSue
import Derived.Test.YthgjjlllifcegaaSuf
import Derived.Test.YthgjjlllifcegaaSug
import Derived.Test.YthgjjlllifcegaaSuh
