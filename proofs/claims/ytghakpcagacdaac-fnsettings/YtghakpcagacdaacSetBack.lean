/- Settings come back of their bytes, and so do two numbers. No program in it. -/
import Derived.Test.YtghakpcagacdaacSetPut
import Derived.Test.YtghakpcagacdaacSetGet
import Derived.Test.YtghakpcagacdaacAway
import Derived.Test.YtghakpcagacdaacAwayP
namespace Go.Proofs.Ytghakpcagacdaac
open Go.RowKit
set_option linter.unusedVariables false

theorem gbTwo2 (M : Nat) : gb (pbl M 2 2) = (M : Int) % 65536 := by
  simp [gb, pbl, byteOf, List.range_succ]; omega
theorem gbFour4 (M : Nat) : gb (pbl M 4 4) = (M : Int) % 4294967296 := by
  simp [gb, pbl, byteOf, List.range_succ]; omega

theorem putS_drop (l : List Sett) : ∀ j, (putS l).drop (6 * j) = putS (l.drop j) := by
  induction l with
  | nil => intro j; simp [putS]
  | cons s l ih =>
    intro j
    cases j with
    | zero => rfl
    | succ j =>
      have e : putS (s :: l) = setB s ++ putS l := rfl
      rw [e, List.drop_succ_cons, ← ih j, show 6 * (j + 1) = 6 + 6 * j by omega, ← List.drop_drop]
      congr 1

theorem setAt_put (l : List Sett) (j : Nat) (x y : Int) (h : l[j]? = some (x, y)) : setAt (putS l) j = ((x.toNat : Int) % 65536, (y.toNat : Int) % 4294967296) := by
  have hj : j < l.length := (List.getElem?_eq_some_iff.1 h).1
  have hd : l.drop j = (x, y) :: l.drop (j + 1) := by
    rw [List.drop_eq_getElem_cons hj]
    congr 1
    exact (List.getElem?_eq_some_iff.1 h).2
  have e : putS ((x, y) :: l.drop (j + 1)) = pbl x.toNat 2 2 ++ (pbl y.toNat 4 4 ++ putS (l.drop (j + 1))) := by
    show setB (x, y) ++ putS (l.drop (j + 1)) = _
    rw [setB, List.append_assoc]
  unfold setAt
  rw [← List.drop_drop (i := 2) (j := 6 * j), putS_drop, hd, e]
  rw [List.take_append_of_le_length (by rw [pbl_len]; omega), List.take_of_length_le (by rw [pbl_len]; omega)]
  rw [List.drop_append_of_le_length (by rw [pbl_len]; omega), List.drop_of_length_le (by rw [pbl_len]; omega), List.nil_append]
  rw [List.take_append_of_le_length (by rw [pbl_len]; omega), List.take_of_length_le (by rw [pbl_len]; omega)]
  rw [gbTwo2, gbFour4]

theorem getS_put (l : List Sett) : getS (putS l) = (getSl (putS l) l.length, true) := by
  rw [getS, putS_len, if_pos (by omega), show 6 * l.length / 6 = l.length by omega]

theorem getSl_at (zs : List Int) (n j : Nat) (hj : j < n) : (getSl zs n)[j]? = some (setAt zs j) := by simp [getSl, hj]

theorem mask31 (M : Nat) (hM : M ≤ 2147483647) : bits .and .i64 (M : Int) 2147483647 = (M : Int) := by
  have h := i64_and_nat M 2147483647 (by omega) (by omega)
  rw [show ((2147483647 : Nat) : Int) = 2147483647 from rfl] at h
  rw [h, show (2147483647 : Nat) = 2 ^ 31 - 1 from rfl, Nat.and_two_pow_sub_one_eq_mod, Nat.mod_eq_of_lt (by omega)]

theorem awayR_put (x y : Int) : awayR (awayB x y) = (bits .and .i64 ((x.toNat : Int) % 4294967296) 2147483647, (y.toNat : Int) % 4294967296, true) := by
  have hl : (awayB x y).length = 8 := by simp [awayB, pbl_len]
  rw [awayR, if_pos (by omega)]
  have e1 : (awayB x y).take 4 = pbl x.toNat 4 4 := by
    rw [awayB, List.take_append_of_le_length (by rw [pbl_len]; omega), List.take_of_length_le (by rw [pbl_len]; omega)]
  have e2 : ((awayB x y).drop 4).take 4 = pbl y.toNat 4 4 := by
    rw [awayB, List.drop_append_of_le_length (by rw [pbl_len]; omega), List.drop_of_length_le (by rw [pbl_len]; omega), List.nil_append, List.take_of_length_le (by rw [pbl_len]; omega)]
  rw [e1, e2, gbFour4, gbFour4]

theorem away_first (x : Int) (h0 : 0 ≤ x) (h1 : x ≤ 2147483647) : bits .and .i64 ((x.toNat : Int) % 4294967296) 2147483647 = x := by
  obtain ⟨M, rfl⟩ := Int.eq_ofNat_of_zero_le h0
  rw [Int.toNat_natCast, show (M : Int) % 4294967296 = (M : Int) by omega]
  exact mask31 M (by omega)

end Go.Proofs.Ytghakpcagacdaac
