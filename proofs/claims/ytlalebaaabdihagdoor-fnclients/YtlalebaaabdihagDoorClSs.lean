/- The specification's copy of a client. -/
import Derived.Test.YtlalebaaabdihagDoorClNs
import Derived.Test.YtlalebaaabdihagDoorL1In
import Derived.Test.YtlalebaaabdihagDoorBoxN
import Derived.Deep.CutBlock
import Derived.Test.YtlalebaaabdihagDoorTabStep
import Derived.Test.YtlalebaaabdihagDoorSegSrc
namespace Go.Proofs.YtlalebaaabdihagDoor
open Go.RowKit
set_option linter.unusedVariables false

set_option maxRecDepth 10000 in
set_option maxHeartbeats 1600000 in
theorem specNextC_any (st q : Int) (w : World) (hst : st = 1 ∨ st = 2 ∨ st = 3 ∨ st = 4) :
    Calls Tryd.prog 36 #[.int .i64 st, .int .i64 q] w fun e w' => e = .returned (.int .i64 (nextC st q)) ∧ w' = w := by
  by_cases q1 : q = 507
  · subst q1
    rcases hst with rfl | rfl | rfl | rfl
    all_goals
      go_enter Tryd.func36, Tryd.ntmps36
      go_wp2_with fail
      go_ret
      exact ⟨rfl, rfl⟩
  by_cases q2 : q = 404
  · subst q2
    clear q1
    rcases hst with rfl | rfl | rfl | rfl
    all_goals
      go_enter Tryd.func36, Tryd.ntmps36
      go_wp2_with fail
      go_ret
      exact ⟨rfl, rfl⟩
  by_cases q3 : q = 409
  · subst q3
    clear q1 q2
    rcases hst with rfl | rfl | rfl | rfl
    all_goals
      go_enter Tryd.func36, Tryd.ntmps36
      go_wp2_with fail
      go_ret
      exact ⟨rfl, rfl⟩
  by_cases q4 : q = 201
  · subst q4
    clear q1 q2 q3
    rcases hst with rfl | rfl | rfl | rfl
    all_goals
      go_enter Tryd.func36, Tryd.ntmps36
      go_wp2_with fail
      go_ret
      exact ⟨rfl, rfl⟩
  by_cases q5 : q = 204
  · subst q5
    clear q1 q2 q3 q4
    rcases hst with rfl | rfl | rfl | rfl
    all_goals
      go_enter Tryd.func36, Tryd.ntmps36
      go_wp2_with fail
      go_ret
      exact ⟨rfl, rfl⟩
  by_cases q6 : q = 200
  · subst q6
    clear q1 q2 q3 q4 q5
    rcases hst with rfl | rfl | rfl | rfl
    all_goals
      go_enter Tryd.func36, Tryd.ntmps36
      go_wp2_with fail
      go_ret
      exact ⟨rfl, rfl⟩
  have HF : Hid (nextC st q = 6) := lookT_none st q turnL fun j hj => by
    rintro ⟨h1, h2⟩
    have hj' : j < 13 := hj
    have : j = 0 ∨ j = 1 ∨ j = 2 ∨ j = 3 ∨ j = 4 ∨ j = 5 ∨ j = 6 ∨ j = 7 ∨ j = 8 ∨ j = 9 ∨ j = 10 ∨ j = 11 ∨ j = 12 := by omega
    rcases this with rfl | rfl | rfl | rfl | rfl | rfl | rfl | rfl | rfl | rfl | rfl | rfl | rfl
    all_goals
      simp [turnL] at h2
      omega
  have r1 : (q == 507) = false := by simpa using q1
  have r2 : (q == 404) = false := by simpa using q2
  have r3 : (q == 409) = false := by simpa using q3
  have r4 : (q == 201) = false := by simpa using q4
  have r5 : (q == 204) = false := by simpa using q5
  have r6 : (q == 200) = false := by simpa using q6
  clear hst
  go_enter Tryd.func36, Tryd.ntmps36
  go_wp2_with fail
  go_ret
  exact ⟨ret_int HF.out.symm, rfl⟩

set_option maxRecDepth 10000 in
set_option maxHeartbeats 1600000 in
theorem specFar_any (id : ByteArray) (a : Option Addr) (n ca : Nat) (st off r : Int) (w : World) (hn : n ≤ 1099511627776) :
    Calls Tryd.prog 37 #[.agg #[.string id, .slice a n ca, .int .i64 st, .int .i64 off], .int .i64 r] w fun e w' => e = .returned (.agg #[.string id, .slice a n ca, .int .i64 (farC n off r).1, .int .i64 (farC n off r).2]) ∧ Below w.heap.size w w' := by
  obtain ⟨W2, hW2⟩ : ∃ W2, (w.alloc (.cells #[.string id, .slice a n ca, .int .i64 st, .int .i64 off] 25)).alloc (.cells #[.string ⟨#[]⟩, .slice none 0 0, .int .i64 0, .int .i64 0] 25) = W2 := ⟨_, rfl⟩
  have HE : Hid ((w.alloc (.cells #[.string id, .slice a n ca, .int .i64 st, .int .i64 off] 25)).alloc (.cells #[.string ⟨#[]⟩, .slice none 0 0, .int .i64 0, .int .i64 0] 25) = W2) := hW2
  have HP : Hid (BoxN W2 w.heap.size 25 [.string id, .slice a n ca, .int .i64 st, .int .i64 off]) := by show BoxN _ _ _ _; rw [← hW2]; exact (BoxN.new _ _ _).alloc _
  have HR : Hid (BoxN W2 (w.heap.size + 1) 25 [.string ⟨#[]⟩, .slice none 0 0, .int .i64 0, .int .i64 0]) := by
    show BoxN _ _ _ _
    rw [← hW2]
    have := BoxN.new (w.alloc (.cells #[.string id, .slice a n ca, .int .i64 st, .int .i64 off] 25)) 25 [.string ⟨#[]⟩, .slice none 0 0, .int .i64 0, .int .i64 0]
    rwa [World.size_alloc] at this
  have HB : Hid (Below w.heap.size w W2) := by show Below _ _ _; rw [← hW2]; exact ((Below.refl _ _).alloc (Nat.le_refl _) _).alloc (by simp) _
  clear hW2
  have c0 := HP.out.cell 0 rfl
  have c1 := HP.out.cell 1 rfl
  have c2 := HP.out.cell 2 rfl
  have c3 := HP.out.cell 3 rfl
  have f2 := HP.out.frozen 2
  have f3 := HP.out.frozen 3
  by_cases h1 : r < 0 ∨ (n : Int) < r
  · have HF : Hid (farC n off r = (6, off)) := if_pos h1
    have HI : Hid (∀ W : World, Calls Tryd.prog 29 #[.int .i64 r, .int .i64 0, .int .i64 (n : Int)] W fun e w' => e = .returned (.bool false) ∧ w' = W) := fun W => l1In_no _ _ _ W (by omega)
    clear h1
    obtain ⟨X, hX⟩ : ∃ X, (World.setCell W2 ⟨w.heap.size, 2, none⟩ (.int .i64 6)) = X := ⟨_, rfl⟩
    have HEX : Hid ((World.setCell W2 ⟨w.heap.size, 2, none⟩ (.int .i64 6)) = X) := hX
    have HPX : Hid (BoxN X w.heap.size 25 [.string id, .slice a n ca, .int .i64 6, .int .i64 off]) := by
      show BoxN _ _ _ _
      rw [← hX]
      exact HP.out.set 2 _
    have HRX : Hid (BoxN X (w.heap.size + 1) 25 [.string ⟨#[]⟩, .slice none 0 0, .int .i64 0, .int .i64 0]) := by
      show BoxN _ _ _ _
      rw [← hX]
      exact HR.out.other (by omega) _
    have HBX : Hid (Below w.heap.size w X) := by
      show Below _ _ _
      rw [← hX]
      repeat (refine Below.setCell ?_ (by dsimp only; omega) _)
      exact HB.out
    clear hX HP HR HB
    go_enter Tryd.func37, Tryd.ntmps37
    go_upto_region 3 with fail
    rw [HE.out]
    clear HE
    go_upto_region 8 with (go_at_call 29; refine (HI.out _).mono ?_; rintro e w' ⟨rfl, hw'⟩; have hw' := hw'.symm; subst hw')
    rw [HEX.out]
    clear HEX c0 c1 c2 c3 f2 f3
    have c0 := HPX.out.cell 0 rfl
    have c1 := HPX.out.cell 1 rfl
    have c2 := HPX.out.cell 2 rfl
    have c3 := HPX.out.cell 3 rfl
    have g0 := HRX.out.cell 0 rfl
    have g1 := HRX.out.cell 1 rfl
    have g2 := HRX.out.cell 2 rfl
    have g3 := HRX.out.cell 3 rfl
    have f0 := HRX.out.frozen 0
    have f1 := HRX.out.frozen 1
    have f2 := HRX.out.frozen 2
    have f3 := HRX.out.frozen 3
    clear HPX HRX
    go_wp2
    refine bodyPost_ret (v := .agg #[.string id, .slice a n ca, .int .i64 6, .int .i64 off]) (by simp [results, Tryd.f37, go_sem, g0, g1, g2, g3]) rfl ?_
    refine ⟨?_, ?_⟩
    · rw [HF.out]
    · repeat (refine Below.setCell ?_ (by dsimp only; omega) _)
      exact HBX.out
  by_cases h2 : r = (n : Int)
  · have HF : Hid (farC n off r = (4, r)) := by show _ = _; rw [farC, if_neg h1, if_pos h2]
    have HI : Hid (∀ W : World, Calls Tryd.prog 29 #[.int .i64 r, .int .i64 0, .int .i64 (n : Int)] W fun e w' => e = .returned (.bool true) ∧ w' = W) := fun W => l1In_yes _ _ _ W (by omega) (by omega)
    have e2 : (r == (n : Int)) = true := by simp [h2]
    clear h1 h2
    obtain ⟨X, hX⟩ : ∃ X, (World.setCell (World.setCell W2 ⟨w.heap.size, 2, none⟩ (.int .i64 4)) ⟨w.heap.size, 3, none⟩ (.int .i64 r)) = X := ⟨_, rfl⟩
    have HEX : Hid ((World.setCell (World.setCell W2 ⟨w.heap.size, 2, none⟩ (.int .i64 4)) ⟨w.heap.size, 3, none⟩ (.int .i64 r)) = X) := hX
    have HPX : Hid (BoxN X w.heap.size 25 [.string id, .slice a n ca, .int .i64 4, .int .i64 r]) := by
      show BoxN _ _ _ _
      rw [← hX]
      exact (HP.out.set 2 _).set 3 _
    have HRX : Hid (BoxN X (w.heap.size + 1) 25 [.string ⟨#[]⟩, .slice none 0 0, .int .i64 0, .int .i64 0]) := by
      show BoxN _ _ _ _
      rw [← hX]
      exact (HR.out.other (by omega) _).other (by omega) _
    have HBX : Hid (Below w.heap.size w X) := by
      show Below _ _ _
      rw [← hX]
      repeat (refine Below.setCell ?_ (by dsimp only; omega) _)
      exact HB.out
    clear hX HP HR HB
    go_enter Tryd.func37, Tryd.ntmps37
    go_upto_region 3 with fail
    rw [HE.out]
    clear HE
    go_upto_region 8 with (go_at_call 29; refine (HI.out _).mono ?_; rintro e w' ⟨rfl, hw'⟩; have hw' := hw'.symm; subst hw')
    rw [HEX.out]
    clear HEX c0 c1 c2 c3 f2 f3
    have c0 := HPX.out.cell 0 rfl
    have c1 := HPX.out.cell 1 rfl
    have c2 := HPX.out.cell 2 rfl
    have c3 := HPX.out.cell 3 rfl
    have g0 := HRX.out.cell 0 rfl
    have g1 := HRX.out.cell 1 rfl
    have g2 := HRX.out.cell 2 rfl
    have g3 := HRX.out.cell 3 rfl
    have f0 := HRX.out.frozen 0
    have f1 := HRX.out.frozen 1
    have f2 := HRX.out.frozen 2
    have f3 := HRX.out.frozen 3
    clear HPX HRX
    go_wp2
    refine bodyPost_ret (v := .agg #[.string id, .slice a n ca, .int .i64 4, .int .i64 r]) (by simp [results, Tryd.f37, go_sem, g0, g1, g2, g3]) rfl ?_
    refine ⟨?_, ?_⟩
    · rw [HF.out]
    · repeat (refine Below.setCell ?_ (by dsimp only; omega) _)
      exact HBX.out
  · have HF : Hid (farC n off r = (3, r)) := by show _ = _; rw [farC, if_neg h1, if_neg h2]
    have HI : Hid (∀ W : World, Calls Tryd.prog 29 #[.int .i64 r, .int .i64 0, .int .i64 (n : Int)] W fun e w' => e = .returned (.bool true) ∧ w' = W) := fun W => l1In_yes _ _ _ W (by omega) (by omega)
    have e2 : (r == (n : Int)) = false := by simpa using h2
    clear h1 h2
    obtain ⟨X, hX⟩ : ∃ X, (World.setCell (World.setCell W2 ⟨w.heap.size, 2, none⟩ (.int .i64 3)) ⟨w.heap.size, 3, none⟩ (.int .i64 r)) = X := ⟨_, rfl⟩
    have HEX : Hid ((World.setCell (World.setCell W2 ⟨w.heap.size, 2, none⟩ (.int .i64 3)) ⟨w.heap.size, 3, none⟩ (.int .i64 r)) = X) := hX
    have HPX : Hid (BoxN X w.heap.size 25 [.string id, .slice a n ca, .int .i64 3, .int .i64 r]) := by
      show BoxN _ _ _ _
      rw [← hX]
      exact (HP.out.set 2 _).set 3 _
    have HRX : Hid (BoxN X (w.heap.size + 1) 25 [.string ⟨#[]⟩, .slice none 0 0, .int .i64 0, .int .i64 0]) := by
      show BoxN _ _ _ _
      rw [← hX]
      exact (HR.out.other (by omega) _).other (by omega) _
    have HBX : Hid (Below w.heap.size w X) := by
      show Below _ _ _
      rw [← hX]
      repeat (refine Below.setCell ?_ (by dsimp only; omega) _)
      exact HB.out
    clear hX HP HR HB
    go_enter Tryd.func37, Tryd.ntmps37
    go_upto_region 3 with fail
    rw [HE.out]
    clear HE
    go_upto_region 8 with (go_at_call 29; refine (HI.out _).mono ?_; rintro e w' ⟨rfl, hw'⟩; have hw' := hw'.symm; subst hw')
    rw [HEX.out]
    clear HEX c0 c1 c2 c3 f2 f3
    have c0 := HPX.out.cell 0 rfl
    have c1 := HPX.out.cell 1 rfl
    have c2 := HPX.out.cell 2 rfl
    have c3 := HPX.out.cell 3 rfl
    have g0 := HRX.out.cell 0 rfl
    have g1 := HRX.out.cell 1 rfl
    have g2 := HRX.out.cell 2 rfl
    have g3 := HRX.out.cell 3 rfl
    have f0 := HRX.out.frozen 0
    have f1 := HRX.out.frozen 1
    have f2 := HRX.out.frozen 2
    have f3 := HRX.out.frozen 3
    clear HPX HRX
    go_wp2
    refine bodyPost_ret (v := .agg #[.string id, .slice a n ca, .int .i64 3, .int .i64 r]) (by simp [results, Tryd.f37, go_sem, g0, g1, g2, g3]) rfl ?_
    refine ⟨?_, ?_⟩
    · rw [HF.out]
    · repeat (refine Below.setCell ?_ (by dsimp only; omega) _)
      exact HBX.out


set_option maxRecDepth 10000 in
set_option maxHeartbeats 1600000 in
theorem specHear_any (id : ByteArray) (a : Option Addr) (n ca : Nat) (st off q r : Int) (w : World) (hn : n ≤ 1099511627776) (hst : st = 1 ∨ st = 2 ∨ st = 3 ∨ st = 4) :
    Calls Tryd.prog 25 #[.agg #[.string id, .slice a n ca, .int .i64 st, .int .i64 off], .agg #[.int .i64 q, .int .i64 r]] w fun e w' => e = .returned (.agg #[.string id, .slice a n ca, .int .i64 (heardC n st off q r).1, .int .i64 (heardC n st off q r).2]) ∧ Below w.heap.size w w' := by
  have HS : Hid (st = 1 ∨ st = 2 ∨ st = 3 ∨ st = 4) := hst
  clear hst
  obtain ⟨W2, hW2⟩ : ∃ W2, ((w.alloc (.cells #[.string id, .slice a n ca, .int .i64 st, .int .i64 off] 25)).alloc (.cells #[.int .i64 q, .int .i64 r] 27)).alloc (.cells #[.string ⟨#[]⟩, .slice none 0 0, .int .i64 0, .int .i64 0] 25) = W2 := ⟨_, rfl⟩
  have HE : Hid (((w.alloc (.cells #[.string id, .slice a n ca, .int .i64 st, .int .i64 off] 25)).alloc (.cells #[.int .i64 q, .int .i64 r] 27)).alloc (.cells #[.string ⟨#[]⟩, .slice none 0 0, .int .i64 0, .int .i64 0] 25) = W2) := hW2
  have HP : Hid (BoxN W2 w.heap.size 25 [.string id, .slice a n ca, .int .i64 st, .int .i64 off]) := by show BoxN _ _ _ _; rw [← hW2]; exact ((BoxN.new _ _ _).alloc _).alloc _
  have HA : Hid (BoxN W2 (w.heap.size + 1) 27 [.int .i64 q, .int .i64 r]) := by
    show BoxN _ _ _ _
    rw [← hW2]
    have := (BoxN.new (w.alloc (.cells #[.string id, .slice a n ca, .int .i64 st, .int .i64 off] 25)) 27 [.int .i64 q, .int .i64 r]).alloc (.cells #[.string ⟨#[]⟩, .slice none 0 0, .int .i64 0, .int .i64 0] 25)
    rwa [World.size_alloc] at this
  have HR : Hid (BoxN W2 (w.heap.size + 1 + 1) 25 [.string ⟨#[]⟩, .slice none 0 0, .int .i64 0, .int .i64 0]) := by
    show BoxN _ _ _ _
    rw [← hW2]
    have := BoxN.new ((w.alloc (.cells #[.string id, .slice a n ca, .int .i64 st, .int .i64 off] 25)).alloc (.cells #[.int .i64 q, .int .i64 r] 27)) 25 [.string ⟨#[]⟩, .slice none 0 0, .int .i64 0, .int .i64 0]
    rwa [World.size_alloc, World.size_alloc] at this
  have HB : Hid (Below w.heap.size w W2) := by show Below _ _ _; rw [← hW2]; exact (((Below.refl _ _).alloc (Nat.le_refl _) _).alloc (by simp) _).alloc (by simp; omega) _
  clear hW2
  have HQ : Hid (∀ W, Below W2.heap.size W2 W → BoxN W w.heap.size 25 [.string id, .slice a n ca, .int .i64 st, .int .i64 off] ∧ BoxN W (w.heap.size + 1) 27 [.int .i64 q, .int .i64 r] ∧ BoxN W (w.heap.size + 1 + 1) 25 [.string ⟨#[]⟩, .slice none 0 0, .int .i64 0, .int .i64 0]) := fun W h => ⟨HP.out.stays h, HA.out.stays h, HR.out.stays h⟩
  have c0 := HP.out.cell 0 rfl
  have c1 := HP.out.cell 1 rfl
  have c2 := HP.out.cell 2 rfl
  have c3 := HP.out.cell 3 rfl
  have a0 := HA.out.cell 0 rfl
  have a1 := HA.out.cell 1 rfl
  have f2 := HP.out.frozen 2
  have f3 := HP.out.frozen 3
  have HN : Hid (∀ W : World, Calls Tryd.prog 36 #[.int .i64 st, .int .i64 q] W fun e w' => e = .returned (.int .i64 (nextC st q)) ∧ w' = W) := fun W => specNextC_any st q W HS.out
  go_enter Tryd.func25, Tryd.ntmps25
  go_upto_region 1 with fail
  rw [HE.out]
  clear HE
  by_cases h0 : nextC st q = 0
  · have HF : Hid (heardC n st off q r = farC n off r) := if_pos h0
    have HN0 : Hid (∀ W : World, Calls Tryd.prog 36 #[.int .i64 st, .int .i64 q] W fun e w' => e = .returned (.int .i64 0) ∧ w' = W) := by show ∀ W : World, _; rw [← h0]; exact HN.out
    clear h0 HN
    go_upto_region 3 with (go_at_call 36; refine (HN0.out _).mono ?_; rintro e w' ⟨rfl, hw'⟩; have hw' := hw'.symm; subst hw')
    go_wp2_with fail
    refine (specFar_any id a n ca st off r W2 hn).mono ?_
    rintro e X ⟨rfl, hb3⟩
    have HBX : Hid (Below w.heap.size w X) := HB.out.trans (hb3.mono HB.out.size)
    have HRX : Hid (BoxN X (w.heap.size + 1 + 1) 25 [.string ⟨#[]⟩, .slice none 0 0, .int .i64 0, .int .i64 0]) := (HQ.out _ hb3).2.2
    obtain ⟨s1, hs1⟩ : ∃ s1, (farC n off r).1 = s1 := ⟨_, rfl⟩
    obtain ⟨o1, ho1⟩ : ∃ o1, (farC n off r).2 = o1 := ⟨_, rfl⟩
    have HF2 : Hid ((heardC n st off q r).1 = s1 ∧ (heardC n st off q r).2 = o1) := by show _ ∧ _; rw [HF.out, hs1, ho1]; exact ⟨rfl, rfl⟩
    rw [hs1, ho1]
    clear hs1 ho1 hb3 HF HB HP HA HR HQ c0 c1 c2 c3 a0 a1 f2 f3
    have g0 := HRX.out.cell 0 rfl
    have g1 := HRX.out.cell 1 rfl
    have g2 := HRX.out.cell 2 rfl
    have g3 := HRX.out.cell 3 rfl
    have f0 := HRX.out.frozen 0
    have f1 := HRX.out.frozen 1
    have f2 := HRX.out.frozen 2
    have f3 := HRX.out.frozen 3
    clear HRX
    go_wp2
    refine bodyPost_ret (v := .agg #[.string id, .slice a n ca, .int .i64 s1, .int .i64 o1]) (by simp [results, Tryd.f25, go_sem, g0, g1, g2, g3]) rfl ?_
    refine ⟨?_, ?_⟩
    · rw [HF2.out.1, HF2.out.2]
    · repeat (refine Below.setCell ?_ (by dsimp only; omega) _)
      exact HBX.out
  obtain ⟨k, hk⟩ : ∃ k, nextC st q = k := ⟨_, rfl⟩
  have HF : Hid (heardC n st off q r = (k, off)) := by show _ = _; rw [heardC, if_neg h0, hk]
  have e0 : (k == 0) = false := by rw [← hk]; simpa using h0
  have HN0 : Hid (∀ W : World, Calls Tryd.prog 36 #[.int .i64 st, .int .i64 q] W fun e w' => e = .returned (.int .i64 k) ∧ w' = W) := by show ∀ W : World, _; rw [← hk]; exact HN.out
  clear h0 HN hk
  obtain ⟨X, hX⟩ : ∃ X, (World.setCell W2 ⟨w.heap.size, 2, none⟩ (.int .i64 k)) = X := ⟨_, rfl⟩
  have HEX : Hid ((World.setCell W2 ⟨w.heap.size, 2, none⟩ (.int .i64 k)) = X) := hX
  have HPX : Hid (BoxN X w.heap.size 25 [.string id, .slice a n ca, .int .i64 k, .int .i64 off]) := by
    show BoxN _ _ _ _
    rw [← hX]
    exact HP.out.set 2 _
  have HRX : Hid (BoxN X (w.heap.size + 1 + 1) 25 [.string ⟨#[]⟩, .slice none 0 0, .int .i64 0, .int .i64 0]) := by
    show BoxN _ _ _ _
    rw [← hX]
    exact HR.out.other (by omega) _
  have HBX : Hid (Below w.heap.size w X) := by
    show Below _ _ _
    rw [← hX]
    repeat (refine Below.setCell ?_ (by dsimp only; omega) _)
    exact HB.out
  clear hX HP HR HB HA HQ
  go_upto_region 5 with (go_at_call 36; refine (HN0.out _).mono ?_; rintro e w' ⟨rfl, hw'⟩; have hw' := hw'.symm; subst hw')
  rw [HEX.out]
  clear HEX c0 c1 c2 c3 f2 f3 a0 a1
  have c0 := HPX.out.cell 0 rfl
  have c1 := HPX.out.cell 1 rfl
  have c2 := HPX.out.cell 2 rfl
  have c3 := HPX.out.cell 3 rfl
  have g0 := HRX.out.cell 0 rfl
  have g1 := HRX.out.cell 1 rfl
  have g2 := HRX.out.cell 2 rfl
  have g3 := HRX.out.cell 3 rfl
  have f0 := HRX.out.frozen 0
  have f1 := HRX.out.frozen 1
  have f2 := HRX.out.frozen 2
  have f3 := HRX.out.frozen 3
  clear HPX HRX
  go_wp2
  refine bodyPost_ret (v := .agg #[.string id, .slice a n ca, .int .i64 k, .int .i64 off]) (by simp [results, Tryd.f25, go_sem, g0, g1, g2, g3]) rfl ?_
  refine ⟨?_, ?_⟩
  · rw [HF.out]
  · repeat (refine Below.setCell ?_ (by dsimp only; omega) _)
    exact HBX.out

end Go.Proofs.YtlalebaaabdihagDoor

namespace Go.Proofs.YtlalebaaabdihagDoor
open Go.RowKit
set_option linter.unusedVariables false

set_option maxRecDepth 10000 in
set_option maxHeartbeats 1600000 in
theorem specOver_any (id : ByteArray) (a : Option Addr) (n ca : Nat) (st off : Int) (w : World) :
    Calls Tryd.prog 24 #[.agg #[.string id, .slice a n ca, .int .i64 st, .int .i64 off]] w fun e w' => e = .returned (.bool (decide (st = 5 ∨ st = 6))) ∧ Below w.heap.size w w' := by
  have HB : Hid (Below w.heap.size w (w.alloc (.cells #[.string id, .slice a n ca, .int .i64 st, .int .i64 off] 25))) := (Below.refl _ _).alloc (Nat.le_refl _) _
  by_cases h5 : st = 5
  · subst h5
    go_enter Tryd.func24, Tryd.ntmps24
    go_wp2_with fail
    go_ret
    exact ⟨rfl, HB.out⟩
  have e5 : (st == 5) = false := by simpa using h5
  by_cases h6 : st = 6
  · subst h6
    clear h5
    go_enter Tryd.func24, Tryd.ntmps24
    go_wp2_with fail
    go_ret
    exact ⟨rfl, HB.out⟩
  have e6 : (st == 6) = false := by simpa using h6
  have HF : Hid (decide (st = 5 ∨ st = 6) = false) := by show _ = _; simp [h5, h6]
  clear h5 h6
  go_enter Tryd.func24, Tryd.ntmps24
  go_wp2_with fail
  go_ret
  exact ⟨ret_bool HF.out.symm, HB.out⟩

end Go.Proofs.YtlalebaaabdihagDoor

namespace Go.Proofs.YtlalebaaabdihagDoor
open Go.RowKit
set_option linter.unusedVariables false

set_option maxRecDepth 10000 in
set_option maxHeartbeats 1600000 in
theorem copyClS_any (id : ByteArray) (st off : Int) (a : Option Addr) (len cap : Nat) (zs : List Int) (w : World) (hs : Seg w a len zs) (hl : len ≤ 1048576) :
    Calls Tryd.prog 22 #[.agg #[.string id, .slice a len cap, .int .i64 st, .int .i64 off]] w fun e w' => ∃ a' cap', e = .returned (.agg #[.string id, .slice a' len cap', .int .i64 st, .int .i64 off]) ∧ Owns w' w.heap.size a' len cap' zs ∧ Below w.heap.size w w' := by
  obtain ⟨i0, hi, hz0, hz1, hz2⟩ := info_parts Tryd.info5
  have HS : Hid (Seg w a len zs) := hs
  have hzl := hs.1
  have HN : Hid (a = none → len = 0) := seg_nil hs
  clear hs
  go_enter Tryd.func22, Tryd.ntmps22
  go_upto_region 1 with fail
  obtain ⟨W2, hW2⟩ : ∃ W2, (w.alloc (.cells #[.string id, .slice a len cap, .int .i64 st, .int .i64 off] 25)).alloc (.cells #[.string ⟨#[]⟩, .slice none 0 0, .int .i64 0, .int .i64 0] 25) = W2 := ⟨_, rfl⟩
  have q1 : BoxN W2 w.heap.size 25 [.string id, .slice a len cap, .int .i64 st, .int .i64 off] := by rw [← hW2]; exact (BoxN.new _ _ _).alloc _
  have q2 : BoxN W2 (w.heap.size + 1) 25 [.string ⟨#[]⟩, .slice none 0 0, .int .i64 0, .int .i64 0] := by
    rw [← hW2]
    have := BoxN.new (w.alloc (.cells #[.string id, .slice a len cap, .int .i64 st, .int .i64 off] 25)) 25 [.string ⟨#[]⟩, .slice none 0 0, .int .i64 0, .int .i64 0]
    rwa [World.size_alloc] at this
  have HB2 : Hid (Below w.heap.size w W2) := by show Below _ _ _; rw [← hW2]; exact ((Below.refl _ _).alloc (Nat.le_refl _) _).alloc (by simp) _
  have HW2 : Hid (W2.heap.size = w.heap.size + 2) := by show _ = _; rw [← hW2]; simp
  have HQ : Hid (∀ W, Below W2.heap.size W2 W → BoxN W w.heap.size 25 [.string id, .slice a len cap, .int .i64 st, .int .i64 off] ∧ BoxN W (w.heap.size + 1) 25 [.string ⟨#[]⟩, .slice none 0 0, .int .i64 0, .int .i64 0]) := fun W h => ⟨q1.stays h, q2.stays h⟩
  rw [hW2]
  clear hW2 q1 q2
  have hbA : Below W2.heap.size W2 (W2.alloc (.cells #[] 5)) := (Below.refl _ _).alloc (Nat.le_refl _) _
  have HO1 : Hid ((W2.alloc (.cells #[] 5)).ownsRow W2.heap.size 5 1 (.slice (some ⟨W2.heap.size, 0, none⟩) 0 0) 0 []) := World.ownsRow_lit W2 #[] 0 (Nat.le_refl _) (Nat.zero_le _) rfl
  have HSA : Hid (Seg (W2.alloc (.cells #[] 5)) a len zs) := HS.out.below (HB2.out.trans (hbA.mono HB2.out.size))
  obtain ⟨c0, c1, c2, c3⟩ := (show _ ∧ _ ∧ _ ∧ _ from ⟨(HQ.out _ hbA).1.cell 0 rfl, (HQ.out _ hbA).1.cell 1 rfl, (HQ.out _ hbA).1.cell 2 rfl, (HQ.out _ hbA).1.cell 3 rfl⟩)
  clear hbA
  go_wp2_with (first | (refine wpList_plain rfl fun K hK => ?_; refine wp_append_src (.tmp 3) (.tmp 5) 22 rfl W2.heap.size 5 i0 (.int .u8 0) 1 1 Tryd.underlying22 hi hz0 hz1 hz2 rfl (by decide) W2.heap.size 0 0 [] rfl HO1.out a len cap (zs.map (Value.int .u8)) rfl HN.out (by simp [hzl]) (seg_src HSA.out) (ints_one zs) (by unfold maxLen; omega) (by omega) (by simp) ?_; intro v4 W4 hown4 hgrow4; obtain ⟨a4, k4, rfl⟩ := shape_of_owns hown4; refine Hid.out ?_) | fail)
  refine hidden ?_
  have hb4 : Below W2.heap.size W2 W4 := ((Below.refl _ _).alloc (Nat.le_refl _) _).grown hgrow4 (by simp) (by simp)
  have HG4 : Hid (Owns W4 W2.heap.size a4 len k4 zs) := ⟨by rw [Nat.zero_add] at hown4; simpa using hown4, HS.out.2.1⟩
  have h2 := HW2.out
  have hbw : Below w.heap.size w W4 := HB2.out.trans (hb4.mono HB2.out.size)
  obtain ⟨p1, p2⟩ := HQ.out _ hb4
  have hn0 : a4.map (·.block) ≠ some w.heap.size := fun e => by have h3 := (HG4.out.lt _ e).1; omega
  have hn1 : a4.map (·.block) ≠ some (w.heap.size + 1) := fun e => by have h3 := (HG4.out.lt _ e).1; omega
  obtain ⟨d0, d1, d2, d3⟩ := (show _ ∧ _ ∧ _ ∧ _ from ⟨p1.cell 0 rfl, p1.cell 1 rfl, p1.cell 2 rfl, p1.cell 3 rfl⟩)
  have f1 := p1.frozen 1
  have p3 := p1.set 1 (.slice a4 len k4)
  have p4 : BoxN (W4.setCell ⟨w.heap.size, 1, none⟩ (.slice a4 len k4)) (w.heap.size + 1) 25 [.string ⟨#[]⟩, .slice none 0 0, .int .i64 0, .int .i64 0] := p2.other (by omega) _
  have HG5 : Hid (Owns (W4.setCell ⟨w.heap.size, 1, none⟩ (.slice a4 len k4)) W2.heap.size a4 len k4 zs) := owns_set HG4.out hn0
  have HB5 : Hid (Below w.heap.size w (W4.setCell ⟨w.heap.size, 1, none⟩ (.slice a4 len k4))) := hbw.setCell (p := ⟨w.heap.size, 1, none⟩) (Nat.le_refl _) _
  obtain ⟨W5, hW5⟩ : ∃ W5, W4.setCell ⟨w.heap.size, 1, none⟩ (.slice a4 len k4) = W5 := ⟨_, rfl⟩
  rw [hW5] at p3 p4 HG5 HB5
  have HX5 : Hid (BoxN W5 w.heap.size 25 [.string id, .slice a4 len k4, .int .i64 st, .int .i64 off] ∧ BoxN W5 (w.heap.size + 1) 25 [.string ⟨#[]⟩, .slice none 0 0, .int .i64 0, .int .i64 0]) := ⟨p3, p4⟩
  have HE5 : Hid (W4.setCell ⟨w.heap.size, 1, none⟩ (.slice a4 len k4) = W5) := hW5
  refine hK _ _ ?_
  clear hK hown4 hgrow4 hb4 hbw p1 p2 p3 p4 HG4 hW5
  go_upto_region 2 with fail
  rw [HE5.out]
  clear c0 c1 c2 c3 d0 d1 d2 d3 f1 HE5
  obtain ⟨c0, c1, c2, c3⟩ := (show _ ∧ _ ∧ _ ∧ _ from ⟨HX5.out.1.cell 0 rfl, HX5.out.1.cell 1 rfl, HX5.out.1.cell 2 rfl, HX5.out.1.cell 3 rfl⟩)
  obtain ⟨g0, g1, g2, g3⟩ := (show _ ∧ _ ∧ _ ∧ _ from ⟨HX5.out.2.cell 0 rfl, HX5.out.2.cell 1 rfl, HX5.out.2.cell 2 rfl, HX5.out.2.cell 3 rfl⟩)
  have f0 := HX5.out.2.frozen 0
  have f1 := HX5.out.2.frozen 1
  have f2 := HX5.out.2.frozen 2
  have f3 := HX5.out.2.frozen 3
  have HO6 : Hid (Owns ((((W5.setCell ⟨w.heap.size + 1, 0, none⟩ (.string id)).setCell ⟨w.heap.size + 1, 1, none⟩ (.slice a4 len k4)).setCell ⟨w.heap.size + 1, 2, none⟩ (.int .i64 st)).setCell ⟨w.heap.size + 1, 3, none⟩ (.int .i64 off)) w.heap.size a4 len k4 zs ∧ Below w.heap.size w ((((W5.setCell ⟨w.heap.size + 1, 0, none⟩ (.string id)).setCell ⟨w.heap.size + 1, 1, none⟩ (.slice a4 len k4)).setCell ⟨w.heap.size + 1, 2, none⟩ (.int .i64 st)).setCell ⟨w.heap.size + 1, 3, none⟩ (.int .i64 off))) := by
    refine ⟨(owns_set (owns_set (owns_set (owns_set HG5.out hn1) hn1) hn1) hn1).low (by omega), ?_⟩
    repeat (refine Below.setCell ?_ (by dsimp only; omega) _)
    exact HB5.out
  clear HG5 HB5 HX5 hn0 hn1 h2
  go_wp2
  refine bodyPost_ret (v := .agg #[.string id, .slice a4 len k4, .int .i64 st, .int .i64 off]) (by simp [results, Tryd.f22, go_sem, g0, g1, g2, g3]) rfl ?_
  exact ⟨_, _, rfl, HO6.out.1, HO6.out.2⟩

end Go.Proofs.YtlalebaaabdihagDoor
