/- The walks of stage 3 over what the program's functions answer. -/
import Derived.Test.YtlneepmpieikeaaUlw
import Derived.Test.YtlneepmpieikeaaUoh
