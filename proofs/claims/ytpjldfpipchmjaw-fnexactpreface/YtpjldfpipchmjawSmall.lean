/- The small facts of Own, under the name that the other texts import. -/
import Derived.Test.YtpjldfpipchmjawOwn
