/- The faces' contracts over the landed code, together: Rdy, code_f, bits_f, enc_f, dec_f. -/
import Derived.Test.YtpoffmnaoohkpaaDoorHJump
import Derived.Test.YtpoffmnaoohkpaaDoorLHelp
