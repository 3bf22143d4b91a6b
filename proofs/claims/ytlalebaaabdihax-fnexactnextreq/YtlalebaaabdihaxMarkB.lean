/- The marks of bytes, beside the copy and the comparison of bytes. -/
import Derived.Test.YtlalebaaabdihaxMarkBn
import Derived.Test.YtlalebaaabdihaxWalkB
