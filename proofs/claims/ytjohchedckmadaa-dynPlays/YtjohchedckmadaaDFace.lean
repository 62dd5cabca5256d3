/- The faces' contracts of the landed table; the laws' texts know these names alone. -/
import Derived.Test.YtjohchedckmadaaDRef3
import Derived.Test.YtjohchedckmadaaLDNew
import Derived.Test.YtjohchedckmadaaLDLen
import Derived.Test.YtjohchedckmadaaLDSize
import Derived.Test.YtjohchedckmadaaLDGet
import Derived.Test.YtjohchedckmadaaLDFind
import Derived.Test.YtjohchedckmadaaLDLimit
import Derived.Test.YtjohchedckmadaaLDAdd
