/- The marks of bytes, beside the copy and the comparison of bytes. -/
import Derived.Test.YtlalebaaabdihawMarkBn
import Derived.Test.YtlalebaaabdihawWalkB
