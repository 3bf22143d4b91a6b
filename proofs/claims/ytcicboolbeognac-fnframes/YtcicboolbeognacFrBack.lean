/- A frame comes back of its bytes, wherever they stand; no program in it. -/
import Derived.Test.YtcicboolbeognacFrGetNums
import Derived.Test.YtcicboolbeognacFrBytes
namespace Go.Proofs.Ytcicboolbeognac
open Go.RowKit
set_option linter.unusedVariables false

theorem gbThree (M : Nat) : gb (pbl M 3 3) = (M : Int) % 16777216 := by
  simp [gb, pbl, byteOf, List.range, List.range.loop]; omega
theorem gbFour (M : Nat) : gb (pbl M 4 4) = (M : Int) % 4294967296 := by
  simp [gb, pbl, byteOf, List.range, List.range.loop]; omega
theorem pblOne (M : Nat) (h : M ≤ 255) : pbl M 1 1 = [(M : Int)] := by
  simp [pbl, byteOf]
  omega

theorem maskStream (M : Nat) (hM : M ≤ 2147483647) : bits .and .i64 (M : Int) 2147483647 = (M : Int) := by
  have h := i64_and_nat M 2147483647 (by omega) (by omega)
  rw [show ((2147483647 : Nat) : Int) = 2147483647 from rfl] at h
  rw [h, show (2147483647 : Nat) = 2 ^ 31 - 1 from rfl, Nat.and_two_pow_sub_one_eq_mod, Nat.mod_eq_of_lt (by omega)]

theorem headB_eq (K F S n : Nat) (hK : K ≤ 255) (hF : F ≤ 255) : headB K F S n = pbl n 3 3 ++ (K : Int) :: (F : Int) :: pbl S 4 4 := by
  rw [headB, pblOne K hK, pblOne F hF]
  simp

/-- The frame that stands behind so many bytes. -/
theorem getF_at (pre post zs : List Int) (K F S : Nat) (hK : K ≤ 255) (hF : F ≤ 255) (hS : S ≤ 2147483647) (hn : zs.length ≤ 1000) :
    getF (pre ++ (headB K F S zs.length ++ zs) ++ post) (pre.length : Int) = ((K : Int), (F : Int), (S : Int), zs, (pre.length : Int) + 9 + (zs.length : Int), 0) := by
  have hl : (pre ++ (headB K F S zs.length ++ zs) ++ post).length = pre.length + 9 + zs.length + post.length := by
    simp only [List.length_append, headB_len]; omega
  have hd : (pre ++ (headB K F S zs.length ++ zs) ++ post).drop pre.length = headB K F S zs.length ++ (zs ++ post) := by
    rw [List.append_assoc, List.drop_left, List.append_assoc]
  have hlen : frLen (pre ++ (headB K F S zs.length ++ zs) ++ post) pre.length = (zs.length : Int) := by
    rw [frLen, hd, headB, List.append_assoc, List.append_assoc, List.append_assoc, List.take_left' (pbl_len _ _ _), gbThree]
    omega
  have hst : frStream (pre ++ (headB K F S zs.length ++ zs) ++ post) pre.length = (S : Int) := by
    rw [frStream, ← List.drop_drop, hd, headB_eq K F S zs.length hK hF]
    rw [show (pbl zs.length 3 3 ++ (K : Int) :: (F : Int) :: pbl S 4 4 ++ (zs ++ post)) = (pbl zs.length 3 3 ++ [(K : Int), (F : Int)]) ++ (pbl S 4 4 ++ (zs ++ post)) by simp]
    rw [List.drop_left' (by simp [pbl_len]), List.take_left' (pbl_len _ _ _), gbFour, show (S : Int) % 4294967296 = (S : Int) by omega]
    exact maskStream S hS
  have hbody : ((pre ++ (headB K F S zs.length ++ zs) ++ post).drop (pre.length + 9)).take zs.length = zs := by
    rw [← List.drop_drop, hd, List.drop_left' (headB_len _ _ _ _), List.take_left' rfl]
  have hget : ∀ i, (pre ++ (headB K F S zs.length ++ zs) ++ post).getD (pre.length + i) 0 = (headB K F S zs.length ++ (zs ++ post)).getD i 0 := by
    intro i
    rw [List.getD_eq_getElem?_getD, List.getD_eq_getElem?_getD, ← List.getElem?_drop, hd]
  have h3 : (pre ++ (headB K F S zs.length ++ zs) ++ post).getD (pre.length + 3) 0 = (K : Int) := by
    rw [hget, headB_eq K F S zs.length hK hF, List.append_assoc, List.getD_eq_getElem?_getD, List.getElem?_append_right (by rw [pbl_len]; omega), pbl_len]
    rfl
  have h4 : (pre ++ (headB K F S zs.length ++ zs) ++ post).getD (pre.length + 4) 0 = (F : Int) := by
    rw [hget, headB_eq K F S zs.length hK hF, List.append_assoc, List.getD_eq_getElem?_getD, List.getElem?_append_right (by rw [pbl_len]; omega), pbl_len]
    rfl
  rw [getF, if_pos ⟨by omega, by rw [hl]; omega⟩, Int.toNat_natCast, hlen, if_neg (by omega), if_pos (by rw [hl]; omega), Int.toNat_natCast, h3, h4, hst, hbody]

theorem getF_put (pre post zs : List Int) (k f s : Int) (h : okF k f s zs.length = true) :
    getF (pre ++ putF k f s zs ++ post) (pre.length : Int) = (k, f, s, zs, (pre.length : Int) + 9 + (zs.length : Int), 0) ∧ (putF k f s zs).length = 9 + zs.length := by
  have hy := okF_yes h
  obtain ⟨K, rfl⟩ := Int.eq_ofNat_of_zero_le hy.1.1
  obtain ⟨F, rfl⟩ := Int.eq_ofNat_of_zero_le hy.2.1.1
  obtain ⟨S, rfl⟩ := Int.eq_ofNat_of_zero_le hy.2.2.1.1
  have e : putF K F S zs = headB K F S zs.length ++ zs := by rw [putF, if_pos h, Int.toNat_natCast, Int.toNat_natCast, Int.toNat_natCast]
  rw [e]
  exact ⟨getF_at pre post zs K F S (by omega) (by omega) (by omega) (by omega), by rw [List.length_append, headB_len]⟩

end Go.Proofs.Ytcicboolbeognac
