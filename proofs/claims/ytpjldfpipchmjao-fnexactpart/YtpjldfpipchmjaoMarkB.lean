/- The marks of bytes, beside the copy and the comparison of bytes. -/
import Derived.Test.YtpjldfpipchmjaoMarkBn
import Derived.Test.YtpjldfpipchmjaoWalkB
