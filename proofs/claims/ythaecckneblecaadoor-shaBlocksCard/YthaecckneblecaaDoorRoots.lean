/- The roots of the first primes, cut to whole numbers of 2^-32: SHA-256's constants. Nothing of the program is named here. -/
import Derived.Test.YthaecckneblecaaDoorDig
namespace Go.Proofs.YthaecckneblecaaDoor.Sh
def cubes : List Nat := [5411319704, 6194414737, 7344290767, 8215976869, 9551921755, 10098905585, 11043570340, 11460697813, 12214315672, 13195500289, 13492127166, 14311783875, 14809980276, 15046980094, 15499789991, 16133124468, 16720292289, 16907126662, 17444216262, 17784676812, 17950125167, 18429019306, 18734950876, 19175934170, 19734090066, 20001703533, 20132865992, 20390182855, 20516441075, 20764397895, 21588763473, 21813078375, 22141143685, 22248366392, 22769593852, 22871018771, 23170020180, 23461497531, 23651862830, 23931792517, 24205322401, 24295138891, 24734567280, 24820601251, 24990902297, 25075189284, 25569408389, 26045227120, 26200031510, 26276752392, 26428864332, 26653801653, 26727943347, 27092625994, 27306805839, 27517677555, 27725365998, 27793908591, 27997534228, 28131656200, 28198240250, 28526537963, 28973835255, 29099129074]
def squares : List Nat := [6074000999, 7439101573, 9603838834, 11363415354, 14244795007, 15485724812, 17708603819, 18721328409]
def K64 : List Nat := cubes.map (· % 4294967296)
def H8 : List Nat := squares.map (· % 4294967296)
set_option maxRecDepth 100000 in
theorem cubes_all : ∀ i : Fin 64, cubes.getD i.1 0 ^ 3 ≤ primes64.getD i.1 0 * 65536 ^ (2 * 3) ∧ primes64.getD i.1 0 * 65536 ^ (2 * 3) < (cubes.getD i.1 0 + 1) ^ 3 := by decide +kernel
set_option maxRecDepth 100000 in
theorem squares_all : ∀ i : Fin 8, squares.getD i.1 0 ^ 2 ≤ primes64.getD i.1 0 * 65536 ^ (2 * 2) ∧ primes64.getD i.1 0 * 65536 ^ (2 * 2) < (squares.getD i.1 0 + 1) ^ 2 := by decide +kernel
theorem K64_len : K64.length = 64 := rfl
theorem H8_len : H8.length = 8 := rfl
theorem primes_le : ∀ i : Fin 64, primes64.getD i.1 0 ≤ 1000 := by decide +kernel
theorem cube_root {i R : Nat} (hi : i < 64) (h1 : R ^ 3 ≤ primes64.getD i 0 * 65536 ^ (2 * 3)) (h2 : primes64.getD i 0 * 65536 ^ (2 * 3) < (R + 1) ^ 3) : R % 4294967296 = K64.getD i 0 := by
  have h := cubes_all ⟨i, hi⟩
  have e := root_unique h1 h2 h.1 h.2
  have hl : i < cubes.length := hi
  rw [e, K64, List.getD, List.getD, List.getElem?_map, List.getElem?_eq_getElem hl]
  rfl
theorem square_root {i R : Nat} (hi : i < 8) (h1 : R ^ 2 ≤ primes64.getD i 0 * 65536 ^ (2 * 2)) (h2 : primes64.getD i 0 * 65536 ^ (2 * 2) < (R + 1) ^ 2) : R % 4294967296 = H8.getD i 0 := by
  have h := squares_all ⟨i, hi⟩
  have e := root_unique h1 h2 h.1 h.2
  have hl : i < squares.length := hi
  rw [e, H8, List.getD, List.getD, List.getElem?_map, List.getElem?_eq_getElem hl]
  rfl
end Go.Proofs.YthaecckneblecaaDoor.Sh
