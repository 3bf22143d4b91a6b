/- The marks of bytes, beside the copy and the comparison of bytes. -/
import Derived.Test.YtlalebaaabdihaxDoorMarkBn
import Derived.Test.YtlalebaaabdihaxDoorWalkB
