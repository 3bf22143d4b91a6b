/- Marks laid on a row of texts. -/
import Derived.Test.YtogopmngbjkcjauStrRow
import Derived.Test.YtogopmngbjkcjauMarkTx
namespace Go.Proofs.Ytogopmngbjkcjau
open Go.RowKit
set_option linter.unusedVariables false

/-- The marks of n texts, from the number k on. -/
def marksS (k n : Nat) : List ByteArray := (List.range n).map fun j => mt (k + j)
theorem marksS_len (k n : Nat) : (marksS k n).length = n := by simp [marksS]
theorem marksS_at (k n j : Nat) (hj : j < n) : (marksS k n)[j]? = some (mt (k + j)) := by simp [marksS, hj]

/-- Texts of which the first j are marked. -/
def smarkTo (k : Nat) (xs : List ByteArray) (j : Nat) : List ByteArray := marksS k j ++ xs.drop j

theorem smarkTo_len (k : Nat) (xs : List ByteArray) (j : Nat) (h : j ≤ xs.length) : (smarkTo k xs j).length = xs.length := by
  simp [smarkTo, marksS_len]
  omega

theorem smarkTo_step (k : Nat) (xs : List ByteArray) (j : Nat) (h : j < xs.length) : (smarkTo k xs j).set j (mt (k + j)) = smarkTo k xs (j + 1) := by
  rw [smarkTo, smarkTo, List.set_append_right j _ (by rw [marksS_len]; exact Nat.le_refl _), marksS_len, Nat.sub_self, List.drop_eq_getElem_cons h, List.set_cons_zero]
  simp [marksS, List.range_succ]

set_option maxRecDepth 10000 in
set_option maxHeartbeats 1600000 in
theorem markStrS_any (base : Nat) (a : Option Addr) (n cap k : Nat) (xs : List ByteArray) (w : World) (h : OwnSt w base (.slice a n cap) n xs) (hn : n ≤ 1099511627776) (hk : k ≤ 1099511627776) :
    Calls Try.prog 46 #[.slice a n cap, .int .i64 (k : Int)] w fun e w' => e = .returned (.int .i64 ((k + n : Nat) : Int)) ∧ OwnSt w' base (.slice a n cap) n (marksS k n) ∧ w.grownBy w' (a.map (·.block)) := by
  have hlen := h.len
  have HO0 : Hid (w.ownsRow base 9 1 (.slice a n cap) n (scells (smarkTo k xs 0))) := h.1
  clear h
  go_enter Try.func46, Try.ntmps46
  go_wp2_with fail
  go_loopw [1, 5] (fun q i wr => ∃ j : Nat, j ≤ n ∧ i = .int .i64 j ∧ q = .int .i64 ((k + j : Nat) : Int) ∧ Hid (wr.ownsRow base 9 1 (.slice a n cap) n (scells (smarkTo k xs j))) ∧ Hid (w.grownBy wr (a.map (·.block)))) (fun _ i _ => n - (intOf i).toNat)
  case atStart => exact ⟨0, Nat.zero_le _, rfl, rfl, HO0, grown_refl _ _⟩
  case round =>
    clear HO0
    obtain ⟨j, hj, rfl, rfl, HO, HG⟩ := hrel
    by_cases hlt : j < n
    · obtain ⟨g, rfl⟩ : ∃ g, a = some ⟨g, 0, none⟩ := by
        rcases HO.out.2 with ⟨_, h0⟩ | ⟨g, cap', cur, he, _⟩
        · omega
        · injection he with e1 _ _
          exact ⟨g, e1⟩
      have hji : (j : Int) < (n : Int) := by omega
      have HM1 : Hid (∀ W, Calls Try.prog 47 #[.int .i64 ((k + j : Nat) : Int)] W fun e w' => e = .returned (.string (mt (k + j))) ∧ Below W.heap.size W w') := fun W => markText_any _ W (by omega)
      have HSt : Hid ((smarkTo k xs j).set j (mt (k + j)) = smarkTo k xs (j + 1)) := smarkTo_step k xs j (by omega)
      have HLn : Hid ((smarkTo k xs j).length = n) := by show _ = _; rw [smarkTo_len k xs j (by omega), hlen]
      generalize mt (k + j) = m1 at *
      generalize smarkTo k xs j = L at *
      obtain ⟨K1, hK1⟩ : ∃ K1, k + (j + 1) = K1 := ⟨_, rfl⟩
      obtain ⟨K0, hK0⟩ : ∃ K0, k + j = K0 := ⟨_, rfl⟩
      have hq1 : (K0 : Int) + 1 = (K1 : Int) := by omega
      rw [hK0] at HM1 ⊢
      have HK1 : Hid (k + (j + 1) = K1) := hK1
      have hK0b : (K0 : Int) ≤ 4398046511104 := by omega
      clear hK0 hK1
      go_wp2_with fail
      refine (HM1.out wr).mono ?_
      rintro e x1 ⟨rfl, hb1⟩
      have HO1 : Hid (x1.ownsRow base 9 1 (.slice (some ⟨g, 0, none⟩) n cap) n (scells L)) := own_stays HO.out hb1
      have HG1 : Hid (w.grownBy x1 (some g)) := grown_trans HG.out (grown_below hb1)
      clear hb1 HO HG
      have hln : (scells L).length = n := by rw [scells_len, HLn.out]
      have f0 : x1.frozen? ⟨g, j, none⟩ = false := HO1.out.frozenAt _
      obtain ⟨u0, hu0⟩ : ∃ u, x1.cell? ⟨g, j, none⟩ = some u := by
        rw [HO1.out.cellAt _ (by omega)]
        exact ⟨_, List.getElem?_eq_getElem (by omega)⟩
      have hst := HO1.out.stored j (.string m1)
      have HO4 : Hid ((x1.setCell ⟨g, j, none⟩ (.string m1)).ownsRow base 9 1 (.slice (some ⟨g, 0, none⟩) n cap) n (scells (smarkTo k xs (j + 1)))) := by
        have h1 := hst.1
        rw [scells_set, HSt.out] at h1
        exact h1
      have HG4 : Hid (w.grownBy (x1.setCell ⟨g, j, none⟩ (.string m1)) (some g)) := grown_trans HG1.out hst.2
      clear hst hln HO1 HG1
      go_wp2_with fail
      go_roundw
      case rel => exact ⟨j + 1, by omega, by go_num, by rw [HK1.out], HO4, HG4⟩
      case measure => simp [intOf]; omega
    · have hjn : j = n := by omega
      subst hjn
      go_wp2_with fail
      go_ret
      have hd : smarkTo k xs j = marksS k j := by
        rw [smarkTo, List.drop_eq_nil_of_le (by omega), List.append_nil]
      have h1 := HO.out
      rw [hd] at h1
      refine ⟨rfl, ⟨h1, ?_⟩, HG.out⟩
      intro f hf
      simp only [marksS, List.mem_map, List.mem_range] at hf
      obtain ⟨i, hi, rfl⟩ := hf
      have s1 := mt_size (k + i)
      unfold maxLen
      omega

end Go.Proofs.Ytogopmngbjkcjau
