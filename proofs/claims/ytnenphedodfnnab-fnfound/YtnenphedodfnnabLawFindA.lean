/- The law on what is found: what it asks of the answers. -/
import Derived.Test.YtnenphedodfnnabTimFind
import Derived.Test.YtnenphedodfnnabTabTwo
import Derived.Test.YtnenphedodfnnabDraws
namespace Go.Proofs.Ytnenphedodfnnab
open Go.RowKit
set_option linter.unusedVariables false

set_option maxRecDepth 10000 in
set_option maxHeartbeats 400000 in
theorem at_any (a : Option Addr) (len cap i : Nat) (zs : List Int) (w : World) (hs : Seg w a len zs) (hl : len ≤ 1099511627776) (hi : i ≤ 1000) :
    Calls Try.prog 9 #[.slice a len cap, .int .i64 i] w fun e w' => ∃ c : UInt8, e = .returned (.int .i64 (c.toNat : Int)) ∧ w' = w := by
  have HS : Hid (Seg w a len zs) := hs
  clear hs
  by_cases hlt : i < len
  · obtain ⟨b, off, rfl, hcell⟩ : ∃ b off, a = some ⟨b, off, none⟩ ∧ w.cell? ⟨b, off + i, none⟩ = some (.int .u8 (zs.getD i 0)) := by
      rcases HS.out.2.2 with h0 | ⟨b, off, e, hb, hc⟩
      · omega
      · exact ⟨b, off, e, hc i hlt⟩
    obtain ⟨h0, h1⟩ := HS.out.range i
    obtain ⟨X, hX⟩ := Int.eq_ofNat_of_zero_le h0
    rw [hX] at hcell h1
    have hx1 : (X : Int) ≤ 255 := h1
    clear h0 h1 hX
    go_enter Try.func9, Try.ntmps9
    go_wp2_with fail
    go_ret
    refine ⟨UInt8.ofNat X, ret_int ?_, rfl⟩
    have : X < 256 := by omega
    simp
    omega
  · have hli : ¬ (i : Int) < (len : Int) := by omega
    have hln : (len : Int) ≤ 1099511627776 := by omega
    have hii : (i : Int) ≤ 1000 := by omega
    go_enter Try.func9, Try.ntmps9
    go_wp2_with fail
    go_ret
    have hx : ((UInt8.ofNat ((i * 31 + len * 7) % 256)).toNat : Int) = ((i : Int) * 31 + (len : Int) * 7) % 256 := by
      simp
    first | exact ⟨UInt8.ofNat ((i * 31 + len * 7) % 256), ret_int hx.symm, rfl⟩ | exact ⟨⟨UInt8.ofNat ((i * 31 + len * 7) % 256), ret_int hx.symm⟩, rfl⟩

theorem firstL_nodup : firstL.Nodup := by decide +kernel

/-- What stands at a number that is found: the field's name, and its value where both are there. -/
theorem find_at {xs : List Fld} {x y : ByteArray} {i : Int} {b : Bool} (h : FindAns (firstL ++ xs) (x, y) i b) (hi : 0 < i) : ∃ y', atAns xs i = ((x, y'), true) ∧ (b = true → y' = y) ∧ i ≤ 61 + xs.length := by
  obtain ⟨k, g, hk, hg1, hg2, rfl⟩ : ∃ (k : Nat) (g : Fld), (firstL ++ xs)[k]? = some g ∧ g.1 = x ∧ (b = true → g.2 = y) ∧ i = (k : Int) + 1 := by
    rcases h with ⟨rfl, k, h1, _, h2⟩ | ⟨rfl, _, ⟨k, g, h1, h2, _, h3⟩ | ⟨_, h3⟩⟩
    · exact ⟨k, (x, y), h1, rfl, fun _ => rfl, h2⟩
    · exact ⟨k, g, h1, h2, fun e => (by cases e), h3⟩
    · omega
  obtain ⟨gx, gy⟩ := g
  have hx : gx = x := hg1
  subst hx
  have hkl : k < 61 + xs.length := by
    have := (List.getElem?_eq_some_iff.1 hk).1
    rw [List.length_append, firstL_len] at this
    exact this
  refine ⟨gy, ?_, hg2, by omega⟩
  unfold atAns
  by_cases hk61 : k < 61
  · rw [if_pos (by omega)]
    unfold firstAns
    rw [if_pos (by omega)]
    rw [List.getElem?_append_left (by rw [firstL_len]; exact hk61)] at hk
    rw [show ((k : Int) + 1 - 1).toNat = k by omega, List.getD_eq_getElem?_getD, hk]
    rfl
  · rw [if_neg (by omega)]
    rw [List.getElem?_append_right (by rw [firstL_len]; omega), firstL_len] at hk
    rw [show ((k : Int) + 1 - 62).toNat = k - 61 by omega, if_pos (by omega), List.getD_eq_getElem?_getD, hk]
    rfl

/-- The first fields are found by themselves. -/
theorem find_first {xs : List Fld} {k : Int} (h1 : 1 ≤ k) (h2 : k ≤ 61) {i : Int} {b : Bool} (h : FindAns (firstL ++ xs) ((firstAns k).1.1, (firstAns k).1.2) i b) : i = k ∧ b = true := by
  obtain ⟨n, rfl⟩ : ∃ n : Nat, k = (n : Int) + 1 := ⟨(k - 1).toNat, by omega⟩
  have hn : n < firstL.length := by rw [firstL_len]; omega
  have hf : firstAns ((n : Int) + 1) = (firstL[n], true) := by
    unfold firstAns
    rw [if_pos ⟨h1, h2⟩, show ((n : Int) + 1 - 1).toNat = n by omega, List.getD_eq_getElem?_getD, List.getElem?_eq_getElem hn]
    rfl
  rw [hf] at h
  refine h.one (find_both ?_ ?_)
  · rw [List.getElem?_append_left hn, List.getElem?_eq_getElem hn]
  · intro j _ hj he
    rw [List.getElem?_append_left (by omega), List.getElem?_eq_getElem (by omega)] at he
    injection he with he
    have := (List.getElem_inj firstL_nodup).1 (show firstL[j] = firstL[n] from he)
    omega

theorem first_ok {k : Int} (h1 : 1 ≤ k) (h2 : k ≤ 61) : (firstAns k).2 = true ∧ (firstAns k).1.1.size ≤ 1000 ∧ (firstAns k).1.2.size ≤ 1000 := by
  have hall : ∀ f ∈ firstL, f.1.size ≤ 1000 ∧ f.2.size ≤ 1000 := by decide +kernel
  obtain ⟨n, rfl⟩ : ∃ n : Nat, k = (n : Int) + 1 := ⟨(k - 1).toNat, by omega⟩
  have hn : n < firstL.length := by rw [firstL_len]; omega
  have hf : firstAns ((n : Int) + 1) = (firstL[n], true) := by
    unfold firstAns
    rw [if_pos ⟨h1, h2⟩, show ((n : Int) + 1 - 1).toNat = n by omega, List.getD_eq_getElem?_getD, List.getElem?_eq_getElem hn]
    rfl
  rw [hf]
  exact ⟨rfl, hall _ (List.getElem_mem hn)⟩

end Go.Proofs.Ytnenphedodfnnab
