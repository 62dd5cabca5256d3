/- THE FACES' CONTRACTS over the landed code (the laws' texts know the names sget_f, sfind_f, ssize_f, stotal_f, ssame_f, Rdy alone). -/
import Derived.Test.YtcamcfecmjoniaaLSGet
import Derived.Test.YtcamcfecmjoniaaLSFind
import Derived.Test.YtcamcfecmjoniaaLSTotal
import Derived.Test.YtcamcfecmjoniaaLSSame
