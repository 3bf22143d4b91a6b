/- The program's table of kinds of records, as it lies in memory. What the program's idOk answers: whether a text is an upload's name. What the program's RecOk answers, under its table. The small facts of Own, under the name that the other texts import. -/
import Derived.Test.YtiigdcpjelbdjaaGreatDoorM06
import Derived.Test.YtiigdcpjelbdjaaGreatDoorM01
import Derived.Test.YtiigdcpjelbdjaaGreatDoorM05
import Derived.Lib.ConvBytes
import Derived.Lib.AtoiErrMem
import Derived.Lib.Strings
import Derived.WalkKit
import Derived.Test.YtiigdcpjelbdjaaGreatDoorM32
import Derived.Test.YtiigdcpjelbdjaaGreatDoorM04
import Derived.Deep.CutBlock
namespace Go.Proofs.YtiigdcpjelbdjaaGreatDoor
open Go.RowKit
set_option linter.unusedVariables false

/-- The greatest N of a kind; the fewest and the most bytes of data. -/
def rMost (k : Nat) : Int := if k = 1 ∨ k = 2 then 1000000000 else 0
def rLo (k : Nat) : Int := if k = 2 then 1 else 0
def rHi (k : Nat) : Int := if k = 2 then 24 else 0

/-- The variable holds the table: five rows of three numbers. -/
def RecT (w : World) : Prop := 0 < w.heap.size ∧ ∀ k : Nat, k ≤ 4 → w.cell? ⟨0, k * 3, none⟩ = some (.int .i64 (rMost k)) ∧ w.cell? ⟨0, k * 3 + 1, none⟩ = some (.int .i64 (rLo k)) ∧ w.cell? ⟨0, k * 3 + 2, none⟩ = some (.int .i64 (rHi k))

theorem RecT.below {w W : World} (h : RecT w) (hb : Below w.heap.size w W) : RecT W :=
  ⟨Nat.lt_of_lt_of_le h.1 hb.size, fun k hk => ⟨(hb.cell (p := ⟨0, k * 3, none⟩) h.1).trans (h.2 k hk).1, (hb.cell (p := ⟨0, k * 3 + 1, none⟩) h.1).trans (h.2 k hk).2.1, (hb.cell (p := ⟨0, k * 3 + 2, none⟩) h.1).trans (h.2 k hk).2.2⟩⟩

/-- Which numbers and how many bytes fit a kind, by the table. -/
theorem kindB_tab (k : Nat) (h1 : 1 ≤ k) (h4 : k ≤ 4) (n : Int) (d : Nat) : kindB (k : Int) n d = decide (0 ≤ n ∧ n ≤ rMost k ∧ rLo k ≤ (d : Int) ∧ (d : Int) ≤ rHi k) := by
  have hk : k = 1 ∨ k = 2 ∨ k = 3 ∨ k = 4 := by omega
  rw [Bool.eq_iff_iff]
  rcases hk with rfl | rfl | rfl | rfl
  all_goals
    simp [kindB, rMost, rLo, rHi]
    omega

theorem kindB_out (k : Int) (h : ¬ (1 ≤ k ∧ k ≤ 4)) (n : Int) (d : Nat) : kindB k n d = false := by
  rw [kindB, if_neg (by omega), if_neg (by omega), if_neg (by omega)]

end Go.Proofs.YtiigdcpjelbdjaaGreatDoor

namespace Go.Proofs.YtiigdcpjelbdjaaGreatDoor
open Go.RowKit
set_option linter.unusedVariables false

theorem data_at (s : ByteArray) (k : Nat) (h : k < s.size) : s.data.toList.getD k 0 = s[k] := by
  have h2 : k < s.data.toList.length := by rw [Array.length_toList]; exact h
  rw [List.getD, List.getElem?_eq_getElem h2, Option.getD_some, Array.getElem_toList]
  rfl

theorem data_get (s : ByteArray) (k : Nat) (h : k < s.size) : s.data.toList[k]'(by rw [Array.length_toList]; exact h) = s[k] := by
  rw [Array.getElem_toList]
  rfl

theorem ret_bool' {a b : Bool} (h : a = b) : Ending.returned (.bool a) = .returned (.bool b) := by rw [h]

set_option maxRecDepth 10000 in
set_option maxHeartbeats 800000 in
theorem implId_any (s : ByteArray) (w : World) (hm : s.size ≤ 9223372036854775807) :
    Calls Tryz.prog 39 #[.string s] w fun e w' => e = .returned (.bool (idB s.data.toList)) ∧ Below w.heap.size w w' := by
  have HL : Hid (s.data.toList.length = s.size) := Array.length_toList
  by_cases hsz : 1 ≤ s.size ∧ s.size ≤ 8
  case neg =>
    have HF : Hid (idB s.data.toList = false) := idB_long (by rw [HL.out]; exact hsz)
    by_cases h0 : s.size < 1
    · have hi : (s.size : Int) < 1 := by omega
      clear hsz
      go_enter Tryz.func39, Tryz.ntmps39
      go_wp2_with fail
      go_ret
      exact ⟨ret_bool' HF.out.symm, Below.refl _ _⟩
    · have hi : ¬ (s.size : Int) < 1 := by omega
      have hj : (8 : Int) < (s.size : Int) := by omega
      clear hsz
      go_enter Tryz.func39, Tryz.ntmps39
      go_wp2_with fail
      go_ret
      exact ⟨ret_bool' HF.out.symm, Below.refl _ _⟩
  obtain ⟨hs1, hs8⟩ := hsz
  have hi : ¬ (s.size : Int) < 1 := by omega
  have hj : ¬ (8 : Int) < (s.size : Int) := by omega
  have hcv := Lib.run_convert_string_bytes (P := Tryz.prog) w 9 22 5 s (u := .string) Tryz.underlying9 Tryz.underlying22 Tryz.underlying5
  have HC : Hid (∀ j (hj : j < s.size), (Lib.bytesWorld w 5 s).cell? ⟨w.heap.size, j, none⟩ = some (.int .u8 (s[j].toNat : Int))) := fun j hj => by rw [Lib.bytesWorld_cell w 5 s j hj, data_at s j hj]
  have HB : Hid (Below w.heap.size w (Lib.bytesWorld w 5 s)) := Lib.bytesWorld_below w 5 s
  obtain ⟨W1, hW1⟩ : ∃ W1, Lib.bytesWorld w 5 s = W1 := ⟨_, rfl⟩
  rw [hW1] at hcv HC HB
  clear hW1
  go_enter Tryz.func39, Tryz.ntmps39
  go_wp2_with fail
  go_loop [16] (fun v => ∃ k : Nat, k ≤ s.size ∧ v = .int .i64 k ∧ Hid (∀ j (hj : j < s.data.toList.length), j < k → idC s.data.toList[j] = true)) (fun v => s.size - (intOf v).toNat)
  case atStart => exact ⟨0, Nat.zero_le _, rfl, fun j _ hj => absurd hj (Nat.not_lt_zero _)⟩
  case round =>
    obtain ⟨k, hk, rfl, HN⟩ := hrel
    by_cases hlt : k < s.size
    · have hki : (k : Int) < (s.size : Int) := by omega
      have hc := HC.out k hlt
      have hc0 : (0 : Int) ≤ (s[k].toNat : Int) := by omega
      have hc1 : (s[k].toNat : Int) ≤ 255 := by have := s[k].toNat_lt; omega
      have HA : Hid (idC (s.data.toList[k]'(by rw [Array.length_toList]; exact hlt)) = ((decide (97 ≤ s[k].toNat) && decide (s[k].toNat ≤ 122)) || (decide (48 ≤ s[k].toNat) && decide (s[k].toNat ≤ 57)))) := by show _ = _; rw [data_get s k hlt, idC]
      have HG : Hid (idC (s.data.toList[k]'(by rw [Array.length_toList]; exact hlt)) = true → ∀ j (hj : j < s.data.toList.length), j < k + 1 → idC s.data.toList[j] = true) := fun h j hj hjk => by
        by_cases e : j = k
        · subst e; exact h
        · exact HN.out j hj (by omega)
      have HBd : Hid (idC (s.data.toList[k]'(by rw [Array.length_toList]; exact hlt)) = false → idB s.data.toList = false) := fun h => idB_bad (by rw [Array.length_toList]; exact hlt) h
      have HS : Hid (idC (s.data.toList[k]'(by rw [Array.length_toList]; exact hlt)) = true ∧ ((97 ≤ (s[k].toNat : Int) ∧ (s[k].toNat : Int) ≤ 122) ∨ (48 ≤ (s[k].toNat : Int) ∧ (s[k].toNat : Int) ≤ 57)) ∨ idC (s.data.toList[k]'(by rw [Array.length_toList]; exact hlt)) = false ∧ ¬ (97 ≤ (s[k].toNat : Int) ∧ (s[k].toNat : Int) ≤ 122) ∧ ¬ (48 ≤ (s[k].toNat : Int) ∧ (s[k].toNat : Int) ≤ 57)) := by
        show _ ∨ _
        rw [HA.out]
        by_cases h1 : 97 ≤ s[k].toNat ∧ s[k].toNat ≤ 122
        · exact .inl ⟨by rw [decide_eq_true h1.1, decide_eq_true h1.2]; rfl, .inl (by omega)⟩
        · by_cases h2 : 48 ≤ s[k].toNat ∧ s[k].toNat ≤ 57
          · exact .inl ⟨by rw [decide_eq_true h2.1, decide_eq_true h2.2]; simp, .inr (by omega)⟩
          · refine .inr ⟨?_, by omega, by omega⟩
            rw [Bool.or_eq_false_iff, Bool.and_eq_false_iff, Bool.and_eq_false_iff]
            simp only [decide_eq_false_iff_not]
            omega
      clear HA HC HN
      generalize (s[k].toNat : Int) = c at *
      rcases HS.out with ⟨hok, hr⟩ | ⟨hno, hr1, hr2⟩
      · have HT : Hid (∀ j (hj : j < s.data.toList.length), j < k + 1 → idC s.data.toList[j] = true) := HG.out hok
        clear HG HBd HS hok
        rcases hr with ⟨r1, r2⟩ | ⟨r1, r2⟩
        · have q1 : ¬ c < 97 := by omega
          have q2 : ¬ (122 : Int) < c := by omega
          go_wp2_with fail
          go_round
          case rel => exact ⟨k + 1, by omega, by go_num, HT⟩
          case measure => simp [intOf]; omega
        · have q1 : c < 97 := by omega
          have q3 : ¬ c < 48 := by omega
          have q4 : ¬ (57 : Int) < c := by omega
          go_wp2_with fail
          go_round
          case rel => exact ⟨k + 1, by omega, by go_num, HT⟩
          case measure => simp [intOf]; omega
      · have HF : Hid (idB s.data.toList = false) := HBd.out hno
        clear HG HBd HS hno
        by_cases q1 : c < 97
        · by_cases q3 : c < 48
          · clear hr1 hr2
            go_wp2_with fail
            go_ret
            exact ⟨ret_bool' HF.out.symm, HB.out⟩
          · have q4 : (57 : Int) < c := by omega
            clear hr1 hr2
            go_wp2_with fail
            go_ret
            exact ⟨ret_bool' HF.out.symm, HB.out⟩
        · have q2 : (122 : Int) < c := by omega
          have q3 : ¬ c < 48 := by omega
          have q4 : (57 : Int) < c := by omega
          clear hr1 hr2
          go_wp2_with fail
          go_ret
          exact ⟨ret_bool' HF.out.symm, HB.out⟩
    · have hkl : k = s.size := by omega
      subst hkl
      have HE : Hid (idB s.data.toList = true) := by
        show _ = _
        rw [idB_good fun j hj => HN.out j hj (by rw [HL.out] at hj; exact hj), HL.out, decide_eq_true_eq]
        omega
      clear HN
      go_wp2_with fail
      go_ret
      exact ⟨ret_bool' HE.out.symm, HB.out⟩

end Go.Proofs.YtiigdcpjelbdjaaGreatDoor

namespace Go.Proofs.YtiigdcpjelbdjaaGreatDoor
open Go.RowKit
set_option linter.unusedVariables false

set_option maxRecDepth 10000 in
set_option maxHeartbeats 1600000 in
theorem implRok_any (e q k : Int) (id : ByteArray) (n : Int) (a : Option Addr) (d ca : Nat) (w : World) (hi : id.size ≤ maxLen) (hd : d ≤ 1099511627776) (ht : RecT w) :
    Calls Tryz.prog 70 #[.agg #[.int .i64 e, .int .i64 q, .int .i64 k, .string id, .int .i64 n, .slice a d ca]] w fun r w' => r = .returned (.bool (okRec e q k id n d)) ∧ Below w.heap.size w w' := by
  have hmm : maxLen < 9223372036854775808 := by decide
  obtain ⟨w0, hw0⟩ : ∃ w0, w.alloc (.cells #[.int .i64 e, .int .i64 q, .int .i64 k, .string id, .int .i64 n, .slice a d ca] 54) = w0 := ⟨_, rfl⟩
  have HE : Hid (w.alloc (.cells #[.int .i64 e, .int .i64 q, .int .i64 k, .string id, .int .i64 n, .slice a d ca] 54) = w0) := hw0
  have HQ0 : Hid (BoxN w0 w.heap.size 54 [.int .i64 e, .int .i64 q, .int .i64 k, .string id, .int .i64 n, .slice a d ca]) := by show BoxN _ _ _ _; rw [← hw0]; exact BoxN.new _ _ _
  have HB : Hid (Below w.heap.size w w0) := by show Below _ _ _; rw [← hw0]; exact (Below.refl _ _).alloc (Nat.le_refl _) _
  have HT : Hid (RecT w0) := ht.below HB.out
  obtain ⟨c0, c1, c2, c3, c4, c5⟩ := (show _ ∧ _ ∧ _ ∧ _ ∧ _ ∧ _ from ⟨HQ0.out.cell 0 rfl, HQ0.out.cell 1 rfl, HQ0.out.cell 2 rfl, HQ0.out.cell 3 rfl, HQ0.out.cell 4 rfl, HQ0.out.cell 5 rfl⟩)
  clear hw0 ht
  go_enter Tryz.func70, Tryz.ntmps70
  go_upto_region 1 with fail
  rw [HE.out]
  clear HE
  by_cases h1 : 0 ≤ e ∧ e ≤ 10000
  case neg =>
    have HF : Hid (okRec e q k id n d = false) := by show _ = _; rw [okRec, decide_eq_false h1]; rfl
    by_cases g1 : e < 0
    · clear h1
      go_wp2_with fail
      go_ret
      exact ⟨ret_bool' HF.out.symm, HB.out⟩
    · have g2 : (10000 : Int) < e := by omega
      clear h1
      go_wp2_with fail
      go_ret
      exact ⟨ret_bool' HF.out.symm, HB.out⟩
  have g1 : ¬ e < 0 := by omega
  have g2 : ¬ (10000 : Int) < e := by omega
  by_cases h2 : 0 ≤ q ∧ q ≤ 199
  case neg =>
    have HF : Hid (okRec e q k id n d = false) := by show _ = _; rw [okRec, decide_eq_false h2, Bool.and_false]; rfl
    by_cases g3 : q < 0
    · clear h1 h2
      go_wp2_with fail
      go_ret
      exact ⟨ret_bool' HF.out.symm, HB.out⟩
    · have g4 : ¬ q < 200 := by omega
      have g5 : (200 : Int) ≤ q := by omega
      clear h1 h2
      go_wp2_with fail
      go_ret
      exact ⟨ret_bool' HF.out.symm, HB.out⟩
  have g3 : ¬ q < 0 := by omega
  have g4 : q < 200 := by omega
  have g5 : ¬ (200 : Int) ≤ q := by omega
  have HK : Hid (okRec e q k id n d = (idB id.data.toList && kindB k n d)) := by show _ = _; rw [okRec, decide_eq_true h1, decide_eq_true h2]; rfl
  clear h1 h2
  go_wp2_with fail
  refine (implId_any id _ (by omega)).mono ?_
  rintro r w1 ⟨rfl, hb1⟩
  have HB1 : Hid (Below w.heap.size w w1) := HB.out.trans (hb1.mono HB.out.size)
  have HT1 : Hid (RecT w1) := HT.out.below hb1
  have HQ1 : Hid (BoxN w1 w.heap.size 54 [.int .i64 e, .int .i64 q, .int .i64 k, .string id, .int .i64 n, .slice a d ca]) := HQ0.out.stays hb1
  clear hb1 HB HT HQ0 c0 c1 c2 c3 c4 c5
  obtain ⟨c0, c1, c2, c3, c4, c5⟩ := (show _ ∧ _ ∧ _ ∧ _ ∧ _ ∧ _ from ⟨HQ1.out.cell 0 rfl, HQ1.out.cell 1 rfl, HQ1.out.cell 2 rfl, HQ1.out.cell 3 rfl, HQ1.out.cell 4 rfl, HQ1.out.cell 5 rfl⟩)
  cases h3 : idB id.data.toList
  · have HF : Hid (okRec e q k id n d = false) := by show _ = _; rw [HK.out, h3]; rfl
    clear h3
    go_wp2_with fail
    go_ret
    exact ⟨ret_bool' HF.out.symm, HB1.out⟩
  have HK2 : Hid (okRec e q k id n d = kindB k n d) := by show _ = _; rw [HK.out, h3]; rfl
  clear HK h3
  go_wp2_with fail
  refine (implKind_any k _).mono ?_
  rintro r w1 ⟨rfl, rfl⟩
  by_cases hk : 1 ≤ k ∧ k ≤ 4
  case neg =>
    have HF : Hid (okRec e q k id n d = false) := by show _ = _; rw [HK2.out, kindB_out k hk]
    rw [decide_eq_false hk]
    clear hk
    go_wp2_with fail
    go_ret
    exact ⟨ret_bool' HF.out.symm, HB1.out⟩
  rw [decide_eq_true hk]
  have k1 : ¬ k < 1 := by omega
  have k4 : ¬ (4 : Int) < k := by omega
  obtain ⟨K, rfl⟩ := Int.eq_ofNat_of_zero_le (show 0 ≤ k by omega)
  have HK3 : Hid (okRec e q (K : Int) id n d = decide (0 ≤ n ∧ n ≤ rMost K ∧ rLo K ≤ (d : Int) ∧ (d : Int) ≤ rHi K)) := by show _ = _; rw [HK2.out, kindB_tab K (by omega) (by omega)]
  have hK5 : (K : Int) < 5 := by omega
  have hK0 : (0 : Int) ≤ (K : Int) := by omega
  obtain ⟨t0, t1, t2⟩ := HT1.out.2 K (by omega)
  clear hk HK2
  generalize rMost K = M at *
  generalize rLo K = L at *
  generalize rHi K = U at *
  have HB2 : Hid (Below w.heap.size w (w1.alloc (.cells #[.int .i64 M, .int .i64 L, .int .i64 U] 126))) := HB1.out.alloc HB1.out.size _
  have q2 : BoxN (w1.alloc (.cells #[.int .i64 M, .int .i64 L, .int .i64 U] 126)) w.heap.size 54 [.int .i64 e, .int .i64 q, .int .i64 (K : Int), .string id, .int .i64 n, .slice a d ca] := HQ1.out.alloc _
  have f2 : BoxN (w1.alloc (.cells #[.int .i64 M, .int .i64 L, .int .i64 U] 126)) w1.heap.size 126 [.int .i64 M, .int .i64 L, .int .i64 U] := BoxN.new _ _ _
  have x4 := q2.cell 4 rfl
  have x5 := q2.cell 5 rfl
  have y0 := f2.cell 0 rfl
  have y1 := f2.cell 1 rfl
  have y2 := f2.cell 2 rfl
  clear q2 f2 HQ1 HT1 c0 c1 c3 c4 c5
  by_cases n0 : 0 ≤ n
  case neg =>
    have HF : Hid (okRec e q (K : Int) id n d = false) := by show _ = _; rw [HK3.out, decide_eq_false (fun h => n0 h.1)]
    have dn : decide (0 ≤ n) = false := decide_eq_false n0
    have dn2 : (0 ≤ n) = False := eq_false n0
    clear n0 HK3
    go_wp2_with fail
    go_ret
    exact ⟨ret_bool' HF.out.symm, HB2.out⟩
  by_cases n1 : n ≤ M
  case neg =>
    have HF : Hid (okRec e q (K : Int) id n d = false) := by show _ = _; rw [HK3.out, decide_eq_false (fun h => n1 h.2.1)]
    have dn : decide (n ≤ M) = false := decide_eq_false n1
    clear n1 HK3
    go_wp2_with fail
    go_ret
    exact ⟨ret_bool' HF.out.symm, HB2.out⟩
  by_cases n2 : L ≤ (d : Int)
  case neg =>
    have HF : Hid (okRec e q (K : Int) id n d = false) := by show _ = _; rw [HK3.out, decide_eq_false (fun h => n2 h.2.2.1)]
    have dn : decide (L ≤ (d : Int)) = false := decide_eq_false n2
    clear n2 HK3
    go_wp2_with fail
    go_ret
    exact ⟨ret_bool' HF.out.symm, HB2.out⟩
  have HF : Hid (okRec e q (K : Int) id n d = decide ((d : Int) ≤ U)) := by show _ = _; rw [HK3.out, decide_eq_decide]; exact ⟨fun h => h.2.2.2, fun h => ⟨n0, n1, n2, h⟩⟩
  clear HK3
  go_wp2_with fail
  go_ret
  exact ⟨ret_bool' HF.out.symm, HB2.out⟩

end Go.Proofs.YtiigdcpjelbdjaaGreatDoor


