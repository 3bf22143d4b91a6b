/- What the specification's functions answer of a client that hears an answer: the step behind a status, how far it is told to be. -/
import Derived.Test.YtlalebaaabdihaxDoorClN
import Derived.Test.YtlalebaaabdihaxDoorL1In
import Derived.Test.YtlalebaaabdihaxDoorBoxN
import Derived.Deep.CutBlock
namespace Go.Proofs.YtlalebaaabdihaxDoor
open Go.RowKit
set_option linter.unusedVariables false

set_option maxRecDepth 10000 in
set_option maxHeartbeats 1600000 in
theorem specNextC_any (st q : Int) (w : World) (hst : st = 1 ∨ st = 2 ∨ st = 3 ∨ st = 4) :
    Calls Tryd.prog 29 #[.int .i64 st, .int .i64 q] w fun e w' => e = .returned (.int .i64 (nextC st q)) ∧ w' = w := by
  by_cases q1 : q = 507
  · subst q1
    rcases hst with rfl | rfl | rfl | rfl
    all_goals
      go_enter Tryd.func29, Tryd.ntmps29
      go_wp2_with fail
      go_ret
      exact ⟨rfl, rfl⟩
  by_cases q2 : q = 404
  · subst q2
    clear q1
    rcases hst with rfl | rfl | rfl | rfl
    all_goals
      go_enter Tryd.func29, Tryd.ntmps29
      go_wp2_with fail
      go_ret
      exact ⟨rfl, rfl⟩
  by_cases q3 : q = 409
  · subst q3
    clear q1 q2
    rcases hst with rfl | rfl | rfl | rfl
    all_goals
      go_enter Tryd.func29, Tryd.ntmps29
      go_wp2_with fail
      go_ret
      exact ⟨rfl, rfl⟩
  by_cases q4 : q = 201
  · subst q4
    clear q1 q2 q3
    rcases hst with rfl | rfl | rfl | rfl
    all_goals
      go_enter Tryd.func29, Tryd.ntmps29
      go_wp2_with fail
      go_ret
      exact ⟨rfl, rfl⟩
  by_cases q5 : q = 204
  · subst q5
    clear q1 q2 q3 q4
    rcases hst with rfl | rfl | rfl | rfl
    all_goals
      go_enter Tryd.func29, Tryd.ntmps29
      go_wp2_with fail
      go_ret
      exact ⟨rfl, rfl⟩
  by_cases q6 : q = 200
  · subst q6
    clear q1 q2 q3 q4 q5
    rcases hst with rfl | rfl | rfl | rfl
    all_goals
      go_enter Tryd.func29, Tryd.ntmps29
      go_wp2_with fail
      go_ret
      exact ⟨rfl, rfl⟩
  have HF : Hid (nextC st q = 6) := lookT_none st q turnL fun j hj => by
    rintro ⟨h1, h2⟩
    have hj' : j < 13 := hj
    have : j = 0 ∨ j = 1 ∨ j = 2 ∨ j = 3 ∨ j = 4 ∨ j = 5 ∨ j = 6 ∨ j = 7 ∨ j = 8 ∨ j = 9 ∨ j = 10 ∨ j = 11 ∨ j = 12 := by omega
    rcases this with rfl | rfl | rfl | rfl | rfl | rfl | rfl | rfl | rfl | rfl | rfl | rfl | rfl
    all_goals
      simp [turnL] at h2
      omega
  have r1 : (q == 507) = false := by simpa using q1
  have r2 : (q == 404) = false := by simpa using q2
  have r3 : (q == 409) = false := by simpa using q3
  have r4 : (q == 201) = false := by simpa using q4
  have r5 : (q == 204) = false := by simpa using q5
  have r6 : (q == 200) = false := by simpa using q6
  clear hst
  go_enter Tryd.func29, Tryd.ntmps29
  go_wp2_with fail
  go_ret
  exact ⟨ret_int HF.out.symm, rfl⟩

set_option maxRecDepth 10000 in
set_option maxHeartbeats 1600000 in
theorem specFar_any (id : ByteArray) (a : Option Addr) (n ca : Nat) (st off r : Int) (w : World) (hn : n ≤ 1099511627776) :
    Calls Tryd.prog 30 #[.agg #[.string id, .slice a n ca, .int .i64 st, .int .i64 off], .int .i64 r] w fun e w' => e = .returned (.agg #[.string id, .slice a n ca, .int .i64 (farC n off r).1, .int .i64 (farC n off r).2]) ∧ Below w.heap.size w w' := by
  obtain ⟨W2, hW2⟩ : ∃ W2, (w.alloc (.cells #[.string id, .slice a n ca, .int .i64 st, .int .i64 off] 28)).alloc (.cells #[.string ⟨#[]⟩, .slice none 0 0, .int .i64 0, .int .i64 0] 28) = W2 := ⟨_, rfl⟩
  have HE : Hid ((w.alloc (.cells #[.string id, .slice a n ca, .int .i64 st, .int .i64 off] 28)).alloc (.cells #[.string ⟨#[]⟩, .slice none 0 0, .int .i64 0, .int .i64 0] 28) = W2) := hW2
  have HP : Hid (BoxN W2 w.heap.size 28 [.string id, .slice a n ca, .int .i64 st, .int .i64 off]) := by show BoxN _ _ _ _; rw [← hW2]; exact (BoxN.new _ _ _).alloc _
  have HR : Hid (BoxN W2 (w.heap.size + 1) 28 [.string ⟨#[]⟩, .slice none 0 0, .int .i64 0, .int .i64 0]) := by
    show BoxN _ _ _ _
    rw [← hW2]
    have := BoxN.new (w.alloc (.cells #[.string id, .slice a n ca, .int .i64 st, .int .i64 off] 28)) 28 [.string ⟨#[]⟩, .slice none 0 0, .int .i64 0, .int .i64 0]
    rwa [World.size_alloc] at this
  have HB : Hid (Below w.heap.size w W2) := by show Below _ _ _; rw [← hW2]; exact ((Below.refl _ _).alloc (Nat.le_refl _) _).alloc (by simp) _
  clear hW2
  have c0 := HP.out.cell 0 rfl
  have c1 := HP.out.cell 1 rfl
  have c2 := HP.out.cell 2 rfl
  have c3 := HP.out.cell 3 rfl
  have f2 := HP.out.frozen 2
  have f3 := HP.out.frozen 3
  by_cases h1 : r < 0 ∨ (n : Int) < r
  · have HF : Hid (farC n off r = (6, off)) := if_pos h1
    have HI : Hid (∀ W : World, Calls Tryd.prog 28 #[.int .i64 r, .int .i64 0, .int .i64 (n : Int)] W fun e w' => e = .returned (.bool false) ∧ w' = W) := fun W => l1In_no _ _ _ W (by omega)
    clear h1
    obtain ⟨X, hX⟩ : ∃ X, (World.setCell W2 ⟨w.heap.size, 2, none⟩ (.int .i64 6)) = X := ⟨_, rfl⟩
    have HEX : Hid ((World.setCell W2 ⟨w.heap.size, 2, none⟩ (.int .i64 6)) = X) := hX
    have HPX : Hid (BoxN X w.heap.size 28 [.string id, .slice a n ca, .int .i64 6, .int .i64 off]) := by
      show BoxN _ _ _ _
      rw [← hX]
      exact HP.out.set 2 _
    have HRX : Hid (BoxN X (w.heap.size + 1) 28 [.string ⟨#[]⟩, .slice none 0 0, .int .i64 0, .int .i64 0]) := by
      show BoxN _ _ _ _
      rw [← hX]
      exact HR.out.other (by omega) _
    have HBX : Hid (Below w.heap.size w X) := by
      show Below _ _ _
      rw [← hX]
      repeat (refine Below.setCell ?_ (by dsimp only; omega) _)
      exact HB.out
    clear hX HP HR HB
    go_enter Tryd.func30, Tryd.ntmps30
    go_upto_region 3 with fail
    rw [HE.out]
    clear HE
    go_upto_region 8 with (go_at_call 28; refine (HI.out _).mono ?_; rintro e w' ⟨rfl, hw'⟩; have hw' := hw'.symm; subst hw')
    rw [HEX.out]
    clear HEX c0 c1 c2 c3 f2 f3
    have c0 := HPX.out.cell 0 rfl
    have c1 := HPX.out.cell 1 rfl
    have c2 := HPX.out.cell 2 rfl
    have c3 := HPX.out.cell 3 rfl
    have g0 := HRX.out.cell 0 rfl
    have g1 := HRX.out.cell 1 rfl
    have g2 := HRX.out.cell 2 rfl
    have g3 := HRX.out.cell 3 rfl
    have f0 := HRX.out.frozen 0
    have f1 := HRX.out.frozen 1
    have f2 := HRX.out.frozen 2
    have f3 := HRX.out.frozen 3
    clear HPX HRX
    go_wp2
    refine bodyPost_ret (v := .agg #[.string id, .slice a n ca, .int .i64 6, .int .i64 off]) (by simp [results, Tryd.f30, go_sem, g0, g1, g2, g3]) rfl ?_
    refine ⟨?_, ?_⟩
    · rw [HF.out]
    · repeat (refine Below.setCell ?_ (by dsimp only; omega) _)
      exact HBX.out
  by_cases h2 : r = (n : Int)
  · have HF : Hid (farC n off r = (4, r)) := by show _ = _; rw [farC, if_neg h1, if_pos h2]
    have HI : Hid (∀ W : World, Calls Tryd.prog 28 #[.int .i64 r, .int .i64 0, .int .i64 (n : Int)] W fun e w' => e = .returned (.bool true) ∧ w' = W) := fun W => l1In_yes _ _ _ W (by omega) (by omega)
    have e2 : (r == (n : Int)) = true := by simp [h2]
    clear h1 h2
    obtain ⟨X, hX⟩ : ∃ X, (World.setCell (World.setCell W2 ⟨w.heap.size, 2, none⟩ (.int .i64 4)) ⟨w.heap.size, 3, none⟩ (.int .i64 r)) = X := ⟨_, rfl⟩
    have HEX : Hid ((World.setCell (World.setCell W2 ⟨w.heap.size, 2, none⟩ (.int .i64 4)) ⟨w.heap.size, 3, none⟩ (.int .i64 r)) = X) := hX
    have HPX : Hid (BoxN X w.heap.size 28 [.string id, .slice a n ca, .int .i64 4, .int .i64 r]) := by
      show BoxN _ _ _ _
      rw [← hX]
      exact (HP.out.set 2 _).set 3 _
    have HRX : Hid (BoxN X (w.heap.size + 1) 28 [.string ⟨#[]⟩, .slice none 0 0, .int .i64 0, .int .i64 0]) := by
      show BoxN _ _ _ _
      rw [← hX]
      exact (HR.out.other (by omega) _).other (by omega) _
    have HBX : Hid (Below w.heap.size w X) := by
      show Below _ _ _
      rw [← hX]
      repeat (refine Below.setCell ?_ (by dsimp only; omega) _)
      exact HB.out
    clear hX HP HR HB
    go_enter Tryd.func30, Tryd.ntmps30
    go_upto_region 3 with fail
    rw [HE.out]
    clear HE
    go_upto_region 8 with (go_at_call 28; refine (HI.out _).mono ?_; rintro e w' ⟨rfl, hw'⟩; have hw' := hw'.symm; subst hw')
    rw [HEX.out]
    clear HEX c0 c1 c2 c3 f2 f3
    have c0 := HPX.out.cell 0 rfl
    have c1 := HPX.out.cell 1 rfl
    have c2 := HPX.out.cell 2 rfl
    have c3 := HPX.out.cell 3 rfl
    have g0 := HRX.out.cell 0 rfl
    have g1 := HRX.out.cell 1 rfl
    have g2 := HRX.out.cell 2 rfl
    have g3 := HRX.out.cell 3 rfl
    have f0 := HRX.out.frozen 0
    have f1 := HRX.out.frozen 1
    have f2 := HRX.out.frozen 2
    have f3 := HRX.out.frozen 3
    clear HPX HRX
    go_wp2
    refine bodyPost_ret (v := .agg #[.string id, .slice a n ca, .int .i64 4, .int .i64 r]) (by simp [results, Tryd.f30, go_sem, g0, g1, g2, g3]) rfl ?_
    refine ⟨?_, ?_⟩
    · rw [HF.out]
    · repeat (refine Below.setCell ?_ (by dsimp only; omega) _)
      exact HBX.out
  · have HF : Hid (farC n off r = (3, r)) := by show _ = _; rw [farC, if_neg h1, if_neg h2]
    have HI : Hid (∀ W : World, Calls Tryd.prog 28 #[.int .i64 r, .int .i64 0, .int .i64 (n : Int)] W fun e w' => e = .returned (.bool true) ∧ w' = W) := fun W => l1In_yes _ _ _ W (by omega) (by omega)
    have e2 : (r == (n : Int)) = false := by simpa using h2
    clear h1 h2
    obtain ⟨X, hX⟩ : ∃ X, (World.setCell (World.setCell W2 ⟨w.heap.size, 2, none⟩ (.int .i64 3)) ⟨w.heap.size, 3, none⟩ (.int .i64 r)) = X := ⟨_, rfl⟩
    have HEX : Hid ((World.setCell (World.setCell W2 ⟨w.heap.size, 2, none⟩ (.int .i64 3)) ⟨w.heap.size, 3, none⟩ (.int .i64 r)) = X) := hX
    have HPX : Hid (BoxN X w.heap.size 28 [.string id, .slice a n ca, .int .i64 3, .int .i64 r]) := by
      show BoxN _ _ _ _
      rw [← hX]
      exact (HP.out.set 2 _).set 3 _
    have HRX : Hid (BoxN X (w.heap.size + 1) 28 [.string ⟨#[]⟩, .slice none 0 0, .int .i64 0, .int .i64 0]) := by
      show BoxN _ _ _ _
      rw [← hX]
      exact (HR.out.other (by omega) _).other (by omega) _
    have HBX : Hid (Below w.heap.size w X) := by
      show Below _ _ _
      rw [← hX]
      repeat (refine Below.setCell ?_ (by dsimp only; omega) _)
      exact HB.out
    clear hX HP HR HB
    go_enter Tryd.func30, Tryd.ntmps30
    go_upto_region 3 with fail
    rw [HE.out]
    clear HE
    go_upto_region 8 with (go_at_call 28; refine (HI.out _).mono ?_; rintro e w' ⟨rfl, hw'⟩; have hw' := hw'.symm; subst hw')
    rw [HEX.out]
    clear HEX c0 c1 c2 c3 f2 f3
    have c0 := HPX.out.cell 0 rfl
    have c1 := HPX.out.cell 1 rfl
    have c2 := HPX.out.cell 2 rfl
    have c3 := HPX.out.cell 3 rfl
    have g0 := HRX.out.cell 0 rfl
    have g1 := HRX.out.cell 1 rfl
    have g2 := HRX.out.cell 2 rfl
    have g3 := HRX.out.cell 3 rfl
    have f0 := HRX.out.frozen 0
    have f1 := HRX.out.frozen 1
    have f2 := HRX.out.frozen 2
    have f3 := HRX.out.frozen 3
    clear HPX HRX
    go_wp2
    refine bodyPost_ret (v := .agg #[.string id, .slice a n ca, .int .i64 3, .int .i64 r]) (by simp [results, Tryd.f30, go_sem, g0, g1, g2, g3]) rfl ?_
    refine ⟨?_, ?_⟩
    · rw [HF.out]
    · repeat (refine Below.setCell ?_ (by dsimp only; omega) _)
      exact HBX.out


set_option maxRecDepth 10000 in
set_option maxHeartbeats 1600000 in
theorem specHear_any (id : ByteArray) (a : Option Addr) (n ca : Nat) (st off q r : Int) (w : World) (hn : n ≤ 1099511627776) (hst : st = 1 ∨ st = 2 ∨ st = 3 ∨ st = 4) :
    Calls Tryd.prog 17 #[.agg #[.string id, .slice a n ca, .int .i64 st, .int .i64 off], .agg #[.int .i64 q, .int .i64 r]] w fun e w' => e = .returned (.agg #[.string id, .slice a n ca, .int .i64 (heardC n st off q r).1, .int .i64 (heardC n st off q r).2]) ∧ Below w.heap.size w w' := by
  have HS : Hid (st = 1 ∨ st = 2 ∨ st = 3 ∨ st = 4) := hst
  clear hst
  obtain ⟨W2, hW2⟩ : ∃ W2, ((w.alloc (.cells #[.string id, .slice a n ca, .int .i64 st, .int .i64 off] 28)).alloc (.cells #[.int .i64 q, .int .i64 r] 31)).alloc (.cells #[.string ⟨#[]⟩, .slice none 0 0, .int .i64 0, .int .i64 0] 28) = W2 := ⟨_, rfl⟩
  have HE : Hid (((w.alloc (.cells #[.string id, .slice a n ca, .int .i64 st, .int .i64 off] 28)).alloc (.cells #[.int .i64 q, .int .i64 r] 31)).alloc (.cells #[.string ⟨#[]⟩, .slice none 0 0, .int .i64 0, .int .i64 0] 28) = W2) := hW2
  have HP : Hid (BoxN W2 w.heap.size 28 [.string id, .slice a n ca, .int .i64 st, .int .i64 off]) := by show BoxN _ _ _ _; rw [← hW2]; exact ((BoxN.new _ _ _).alloc _).alloc _
  have HA : Hid (BoxN W2 (w.heap.size + 1) 31 [.int .i64 q, .int .i64 r]) := by
    show BoxN _ _ _ _
    rw [← hW2]
    have := (BoxN.new (w.alloc (.cells #[.string id, .slice a n ca, .int .i64 st, .int .i64 off] 28)) 31 [.int .i64 q, .int .i64 r]).alloc (.cells #[.string ⟨#[]⟩, .slice none 0 0, .int .i64 0, .int .i64 0] 28)
    rwa [World.size_alloc] at this
  have HR : Hid (BoxN W2 (w.heap.size + 1 + 1) 28 [.string ⟨#[]⟩, .slice none 0 0, .int .i64 0, .int .i64 0]) := by
    show BoxN _ _ _ _
    rw [← hW2]
    have := BoxN.new ((w.alloc (.cells #[.string id, .slice a n ca, .int .i64 st, .int .i64 off] 28)).alloc (.cells #[.int .i64 q, .int .i64 r] 31)) 28 [.string ⟨#[]⟩, .slice none 0 0, .int .i64 0, .int .i64 0]
    rwa [World.size_alloc, World.size_alloc] at this
  have HB : Hid (Below w.heap.size w W2) := by show Below _ _ _; rw [← hW2]; exact (((Below.refl _ _).alloc (Nat.le_refl _) _).alloc (by simp) _).alloc (by simp; omega) _
  clear hW2
  have HQ : Hid (∀ W, Below W2.heap.size W2 W → BoxN W w.heap.size 28 [.string id, .slice a n ca, .int .i64 st, .int .i64 off] ∧ BoxN W (w.heap.size + 1) 31 [.int .i64 q, .int .i64 r] ∧ BoxN W (w.heap.size + 1 + 1) 28 [.string ⟨#[]⟩, .slice none 0 0, .int .i64 0, .int .i64 0]) := fun W h => ⟨HP.out.stays h, HA.out.stays h, HR.out.stays h⟩
  have c0 := HP.out.cell 0 rfl
  have c1 := HP.out.cell 1 rfl
  have c2 := HP.out.cell 2 rfl
  have c3 := HP.out.cell 3 rfl
  have a0 := HA.out.cell 0 rfl
  have a1 := HA.out.cell 1 rfl
  have f2 := HP.out.frozen 2
  have f3 := HP.out.frozen 3
  have HN : Hid (∀ W : World, Calls Tryd.prog 29 #[.int .i64 st, .int .i64 q] W fun e w' => e = .returned (.int .i64 (nextC st q)) ∧ w' = W) := fun W => specNextC_any st q W HS.out
  go_enter Tryd.func17, Tryd.ntmps17
  go_upto_region 1 with fail
  rw [HE.out]
  clear HE
  by_cases h0 : nextC st q = 0
  · have HF : Hid (heardC n st off q r = farC n off r) := if_pos h0
    have HN0 : Hid (∀ W : World, Calls Tryd.prog 29 #[.int .i64 st, .int .i64 q] W fun e w' => e = .returned (.int .i64 0) ∧ w' = W) := by show ∀ W : World, _; rw [← h0]; exact HN.out
    clear h0 HN
    go_upto_region 3 with (go_at_call 29; refine (HN0.out _).mono ?_; rintro e w' ⟨rfl, hw'⟩; have hw' := hw'.symm; subst hw')
    go_wp2_with fail
    refine (specFar_any id a n ca st off r W2 hn).mono ?_
    rintro e X ⟨rfl, hb3⟩
    have HBX : Hid (Below w.heap.size w X) := HB.out.trans (hb3.mono HB.out.size)
    have HRX : Hid (BoxN X (w.heap.size + 1 + 1) 28 [.string ⟨#[]⟩, .slice none 0 0, .int .i64 0, .int .i64 0]) := (HQ.out _ hb3).2.2
    obtain ⟨s1, hs1⟩ : ∃ s1, (farC n off r).1 = s1 := ⟨_, rfl⟩
    obtain ⟨o1, ho1⟩ : ∃ o1, (farC n off r).2 = o1 := ⟨_, rfl⟩
    have HF2 : Hid ((heardC n st off q r).1 = s1 ∧ (heardC n st off q r).2 = o1) := by show _ ∧ _; rw [HF.out, hs1, ho1]; exact ⟨rfl, rfl⟩
    rw [hs1, ho1]
    clear hs1 ho1 hb3 HF HB HP HA HR HQ c0 c1 c2 c3 a0 a1 f2 f3
    have g0 := HRX.out.cell 0 rfl
    have g1 := HRX.out.cell 1 rfl
    have g2 := HRX.out.cell 2 rfl
    have g3 := HRX.out.cell 3 rfl
    have f0 := HRX.out.frozen 0
    have f1 := HRX.out.frozen 1
    have f2 := HRX.out.frozen 2
    have f3 := HRX.out.frozen 3
    clear HRX
    go_wp2
    refine bodyPost_ret (v := .agg #[.string id, .slice a n ca, .int .i64 s1, .int .i64 o1]) (by simp [results, Tryd.f17, go_sem, g0, g1, g2, g3]) rfl ?_
    refine ⟨?_, ?_⟩
    · rw [HF2.out.1, HF2.out.2]
    · repeat (refine Below.setCell ?_ (by dsimp only; omega) _)
      exact HBX.out
  obtain ⟨k, hk⟩ : ∃ k, nextC st q = k := ⟨_, rfl⟩
  have HF : Hid (heardC n st off q r = (k, off)) := by show _ = _; rw [heardC, if_neg h0, hk]
  have e0 : (k == 0) = false := by rw [← hk]; simpa using h0
  have HN0 : Hid (∀ W : World, Calls Tryd.prog 29 #[.int .i64 st, .int .i64 q] W fun e w' => e = .returned (.int .i64 k) ∧ w' = W) := by show ∀ W : World, _; rw [← hk]; exact HN.out
  clear h0 HN hk
  obtain ⟨X, hX⟩ : ∃ X, (World.setCell W2 ⟨w.heap.size, 2, none⟩ (.int .i64 k)) = X := ⟨_, rfl⟩
  have HEX : Hid ((World.setCell W2 ⟨w.heap.size, 2, none⟩ (.int .i64 k)) = X) := hX
  have HPX : Hid (BoxN X w.heap.size 28 [.string id, .slice a n ca, .int .i64 k, .int .i64 off]) := by
    show BoxN _ _ _ _
    rw [← hX]
    exact HP.out.set 2 _
  have HRX : Hid (BoxN X (w.heap.size + 1 + 1) 28 [.string ⟨#[]⟩, .slice none 0 0, .int .i64 0, .int .i64 0]) := by
    show BoxN _ _ _ _
    rw [← hX]
    exact HR.out.other (by omega) _
  have HBX : Hid (Below w.heap.size w X) := by
    show Below _ _ _
    rw [← hX]
    repeat (refine Below.setCell ?_ (by dsimp only; omega) _)
    exact HB.out
  clear hX HP HR HB HA HQ
  go_upto_region 5 with (go_at_call 29; refine (HN0.out _).mono ?_; rintro e w' ⟨rfl, hw'⟩; have hw' := hw'.symm; subst hw')
  rw [HEX.out]
  clear HEX c0 c1 c2 c3 f2 f3 a0 a1
  have c0 := HPX.out.cell 0 rfl
  have c1 := HPX.out.cell 1 rfl
  have c2 := HPX.out.cell 2 rfl
  have c3 := HPX.out.cell 3 rfl
  have g0 := HRX.out.cell 0 rfl
  have g1 := HRX.out.cell 1 rfl
  have g2 := HRX.out.cell 2 rfl
  have g3 := HRX.out.cell 3 rfl
  have f0 := HRX.out.frozen 0
  have f1 := HRX.out.frozen 1
  have f2 := HRX.out.frozen 2
  have f3 := HRX.out.frozen 3
  clear HPX HRX
  go_wp2
  refine bodyPost_ret (v := .agg #[.string id, .slice a n ca, .int .i64 k, .int .i64 off]) (by simp [results, Tryd.f17, go_sem, g0, g1, g2, g3]) rfl ?_
  refine ⟨?_, ?_⟩
  · rw [HF.out]
  · repeat (refine Below.setCell ?_ (by dsimp only; omega) _)
    exact HBX.out

end Go.Proofs.YtlalebaaabdihaxDoor
