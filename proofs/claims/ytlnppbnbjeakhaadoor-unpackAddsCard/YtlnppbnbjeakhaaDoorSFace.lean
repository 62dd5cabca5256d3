/- stat's faces over the landed code, as far as stage 8 wants them. -/
import Derived.Test.YtlnppbnbjeakhaaDoorLUAt
import Derived.Test.YtlnppbnbjeakhaaDoorLSSame
