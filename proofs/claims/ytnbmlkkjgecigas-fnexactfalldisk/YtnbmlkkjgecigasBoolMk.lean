/- Marks laid on a row of truths. -/
import Derived.Test.YtnbmlkkjgecigasBoolRow
import Derived.Test.YtnbmlkkjgecigasMarkTx
namespace Go.Proofs.Ytnbmlkkjgecigas
open Go.RowKit
set_option linter.unusedVariables false

/-- The mark of a number. -/
def mb (k : Nat) : Bool := decide (k % 3 = 0)

/-- The marks of n truths, from the number k on. -/
def marksB (k n : Nat) : List Bool := (List.range n).map fun j => mb (k + j)
theorem marksB_len (k n : Nat) : (marksB k n).length = n := by simp [marksB]
theorem marksB_at (k n j : Nat) (hj : j < n) : (marksB k n)[j]? = some (mb (k + j)) := by simp [marksB, hj]

/-- Texts of which the first j are marked. -/
def bmarkTo (k : Nat) (xs : List Bool) (j : Nat) : List Bool := marksB k j ++ xs.drop j

theorem bmarkTo_len (k : Nat) (xs : List Bool) (j : Nat) (h : j ≤ xs.length) : (bmarkTo k xs j).length = xs.length := by
  simp [bmarkTo, marksB_len]
  omega

theorem bmarkTo_step (k : Nat) (xs : List Bool) (j : Nat) (h : j < xs.length) : (bmarkTo k xs j).set j (mb (k + j)) = bmarkTo k xs (j + 1) := by
  rw [bmarkTo, bmarkTo, List.set_append_right j _ (by rw [marksB_len]; exact Nat.le_refl _), marksB_len, Nat.sub_self, List.drop_eq_getElem_cons h, List.set_cons_zero]
  simp [marksB, List.range_succ]

set_option maxRecDepth 10000 in
set_option maxHeartbeats 1600000 in
theorem markBoolS_any (base : Nat) (a : Option Addr) (n cap k : Nat) (xs : List Bool) (w : World) (h : OwnBo w base (.slice a n cap) n xs) (hn : n ≤ 1099511627776) (hk : k ≤ 1099511627776) :
    Calls Try.prog 18 #[.slice a n cap, .int .i64 (k : Int)] w fun e w' => e = .returned (.int .i64 ((k + n : Nat) : Int)) ∧ OwnBo w' base (.slice a n cap) n (marksB k n) ∧ w.grownBy w' (a.map (·.block)) := by
  have hlen := h.len
  have HO0 : Hid (w.ownsRow base 4 1 (.slice a n cap) n (bcells (bmarkTo k xs 0))) := h.1
  clear h
  go_enter Try.func18, Try.ntmps18
  go_wp2_with fail
  go_loopw [1, 5] (fun q i wr => ∃ j : Nat, j ≤ n ∧ i = .int .i64 j ∧ q = .int .i64 ((k + j : Nat) : Int) ∧ Hid (wr.ownsRow base 4 1 (.slice a n cap) n (bcells (bmarkTo k xs j))) ∧ Hid (w.grownBy wr (a.map (·.block)))) (fun _ i _ => n - (intOf i).toNat)
  case atStart => exact ⟨0, Nat.zero_le _, rfl, rfl, HO0, grown_refl _ _⟩
  case round =>
    clear HO0
    obtain ⟨j, hj, rfl, rfl, HO, HG⟩ := hrel
    by_cases hlt : j < n
    · obtain ⟨g, rfl⟩ : ∃ g, a = some ⟨g, 0, none⟩ := by
        rcases HO.out.2 with ⟨_, h0⟩ | ⟨g, cap', cur, he, _⟩
        · omega
        · injection he with e1 _ _
          exact ⟨g, e1⟩
      have hji : (j : Int) < (n : Int) := by omega
      have hmb : (((k + j : Nat) : Int) % 3 == 0) = mb (k + j) := by
        rw [mb]
        by_cases h : (k + j) % 3 = 0
        · rw [decide_eq_true h, beq_iff_eq]; omega
        · rw [decide_eq_false h, beq_eq_false_iff_ne]; omega
      have HSt : Hid ((bmarkTo k xs j).set j (mb (k + j)) = bmarkTo k xs (j + 1)) := bmarkTo_step k xs j (by omega)
      have HLn : Hid ((bmarkTo k xs j).length = n) := by show _ = _; rw [bmarkTo_len k xs j (by omega), hlen]
      generalize mb (k + j) = m1 at *
      generalize bmarkTo k xs j = L at *
      obtain ⟨K1, hK1⟩ : ∃ K1, k + (j + 1) = K1 := ⟨_, rfl⟩
      obtain ⟨K0, hK0⟩ : ∃ K0, k + j = K0 := ⟨_, rfl⟩
      have hq1 : (K0 : Int) + 1 = (K1 : Int) := by omega
      rw [hK0] at hmb ⊢
      have HK1 : Hid (k + (j + 1) = K1) := hK1
      have hK0b : (K0 : Int) ≤ 4398046511104 := by omega
      clear hK0 hK1
      have HO1 : Hid (wr.ownsRow base 4 1 (.slice (some ⟨g, 0, none⟩) n cap) n (bcells L)) := HO.out
      have HG1 : Hid (w.grownBy wr (some g)) := HG.out
      clear HO HG
      have hln : (bcells L).length = n := by rw [bcells_len, HLn.out]
      have f0 : wr.frozen? ⟨g, j, none⟩ = false := HO1.out.frozenAt _
      obtain ⟨u0, hu0⟩ : ∃ u, wr.cell? ⟨g, j, none⟩ = some u := by
        rw [HO1.out.cellAt _ (by omega)]
        exact ⟨_, List.getElem?_eq_getElem (by omega)⟩
      have hst := HO1.out.stored j (.bool m1)
      have HO4 : Hid ((wr.setCell ⟨g, j, none⟩ (.bool m1)).ownsRow base 4 1 (.slice (some ⟨g, 0, none⟩) n cap) n (bcells (bmarkTo k xs (j + 1)))) := by
        have h1 := hst.1
        rw [bcells_set, HSt.out] at h1
        exact h1
      have HG4 : Hid (w.grownBy (wr.setCell ⟨g, j, none⟩ (.bool m1)) (some g)) := grown_trans HG1.out hst.2
      clear hst hln HO1 HG1
      go_wp2_with fail
      go_roundw
      case rel => exact ⟨j + 1, by omega, by go_num, by rw [HK1.out], HO4, HG4⟩
      case measure => simp [intOf]; omega
    · have hjn : j = n := by omega
      subst hjn
      go_wp2_with fail
      go_ret
      have hd : bmarkTo k xs j = marksB k j := by
        rw [bmarkTo, List.drop_eq_nil_of_le (by omega), List.append_nil]
      have h1 := HO.out
      rw [hd] at h1
      exact ⟨rfl, ⟨h1, trivial⟩, HG.out⟩

end Go.Proofs.Ytnbmlkkjgecigas
