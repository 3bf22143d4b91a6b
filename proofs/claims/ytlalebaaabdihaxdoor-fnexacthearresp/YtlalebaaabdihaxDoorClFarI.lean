/- What the program's toldToBe answers: a client that is told how far it is. -/
import Derived.Test.YtlalebaaabdihaxDoorClN
import Derived.Test.YtlalebaaabdihaxDoorBoxN
import Derived.Deep.CutBlock
namespace Go.Proofs.YtlalebaaabdihaxDoor
open Go.RowKit
set_option linter.unusedVariables false

set_option maxRecDepth 10000 in
set_option maxHeartbeats 1600000 in
theorem implFar_any (id : ByteArray) (a : Option Addr) (n ca : Nat) (st off r : Int) (w : World) (hn : n ≤ 1099511627776) (hr : -1 ≤ r) :
    Calls Tryd.prog 23 #[.agg #[.string id, .slice a n ca, .int .i64 st, .int .i64 off], .int .i64 r] w fun e w' => e = .returned (.agg #[.string id, .slice a n ca, .int .i64 (farC n off r).1, .int .i64 (farC n off r).2]) ∧ Below w.heap.size w w' := by
  obtain ⟨W2, hW2⟩ : ∃ W2, (w.alloc (.cells #[.string id, .slice a n ca, .int .i64 st, .int .i64 off] 28)).alloc (.cells #[.string ⟨#[]⟩, .slice none 0 0, .int .i64 0, .int .i64 0] 28) = W2 := ⟨_, rfl⟩
  have HE : Hid ((w.alloc (.cells #[.string id, .slice a n ca, .int .i64 st, .int .i64 off] 28)).alloc (.cells #[.string ⟨#[]⟩, .slice none 0 0, .int .i64 0, .int .i64 0] 28) = W2) := hW2
  have HP : Hid (BoxN W2 w.heap.size 28 [.string id, .slice a n ca, .int .i64 st, .int .i64 off]) := by show BoxN _ _ _ _; rw [← hW2]; exact (BoxN.new _ _ _).alloc _
  have HR : Hid (BoxN W2 (w.heap.size + 1) 28 [.string ⟨#[]⟩, .slice none 0 0, .int .i64 0, .int .i64 0]) := by
    show BoxN _ _ _ _
    rw [← hW2]
    have := BoxN.new (w.alloc (.cells #[.string id, .slice a n ca, .int .i64 st, .int .i64 off] 28)) 28 [.string ⟨#[]⟩, .slice none 0 0, .int .i64 0, .int .i64 0]
    rwa [World.size_alloc] at this
  have HB : Hid (Below w.heap.size w W2) := by show Below _ _ _; rw [← hW2]; exact ((Below.refl _ _).alloc (Nat.le_refl _) _).alloc (by simp) _
  clear hW2
  have c0 := HP.out.cell 0 rfl
  have c1 := HP.out.cell 1 rfl
  have c2 := HP.out.cell 2 rfl
  have c3 := HP.out.cell 3 rfl
  have f2 := HP.out.frozen 2
  have f3 := HP.out.frozen 3
  by_cases h0 : r = -1
  · subst h0
    have HF : Hid (farC n off (-1) = (6, off)) := if_pos (.inl (by omega))
    obtain ⟨X, hX⟩ : ∃ X, (World.setCell W2 ⟨w.heap.size, 2, none⟩ (.int .i64 6)) = X := ⟨_, rfl⟩
    have HEX : Hid ((World.setCell W2 ⟨w.heap.size, 2, none⟩ (.int .i64 6)) = X) := hX
    have HPX : Hid (BoxN X w.heap.size 28 [.string id, .slice a n ca, .int .i64 6, .int .i64 off]) := by
      show BoxN _ _ _ _
      rw [← hX]
      exact HP.out.set 2 _
    have HRX : Hid (BoxN X (w.heap.size + 1) 28 [.string ⟨#[]⟩, .slice none 0 0, .int .i64 0, .int .i64 0]) := by
      show BoxN _ _ _ _
      rw [← hX]
      exact HR.out.other (by omega) _
    have HBX : Hid (Below w.heap.size w X) := by
      show Below _ _ _
      rw [← hX]
      repeat (refine Below.setCell ?_ (by dsimp only; omega) _)
      exact HB.out
    clear hX HP HR HB
    go_enter Tryd.func23, Tryd.ntmps23
    go_upto_region 1 with fail
    rw [HE.out]
    clear HE
    go_upto_region 3 with fail
    rw [HEX.out]
    clear HEX c0 c1 c2 c3 f2 f3
    have c0 := HPX.out.cell 0 rfl
    have c1 := HPX.out.cell 1 rfl
    have c2 := HPX.out.cell 2 rfl
    have c3 := HPX.out.cell 3 rfl
    have g0 := HRX.out.cell 0 rfl
    have g1 := HRX.out.cell 1 rfl
    have g2 := HRX.out.cell 2 rfl
    have g3 := HRX.out.cell 3 rfl
    have f0 := HRX.out.frozen 0
    have f1 := HRX.out.frozen 1
    have f2 := HRX.out.frozen 2
    have f3 := HRX.out.frozen 3
    clear HPX HRX
    go_wp2
    refine bodyPost_ret (v := .agg #[.string id, .slice a n ca, .int .i64 6, .int .i64 off]) (by simp [results, Tryd.f23, go_sem, g0, g1, g2, g3]) rfl ?_
    refine ⟨?_, ?_⟩
    · rw [HF.out]
    · repeat (refine Below.setCell ?_ (by dsimp only; omega) _)
      exact HBX.out
  have e0 : (r == -1) = false := by simpa using h0
  by_cases h1 : (n : Int) < r
  · have HF : Hid (farC n off r = (6, off)) := if_pos (.inr h1)
    clear h0
    obtain ⟨X, hX⟩ : ∃ X, (World.setCell W2 ⟨w.heap.size, 2, none⟩ (.int .i64 6)) = X := ⟨_, rfl⟩
    have HEX : Hid ((World.setCell W2 ⟨w.heap.size, 2, none⟩ (.int .i64 6)) = X) := hX
    have HPX : Hid (BoxN X w.heap.size 28 [.string id, .slice a n ca, .int .i64 6, .int .i64 off]) := by
      show BoxN _ _ _ _
      rw [← hX]
      exact HP.out.set 2 _
    have HRX : Hid (BoxN X (w.heap.size + 1) 28 [.string ⟨#[]⟩, .slice none 0 0, .int .i64 0, .int .i64 0]) := by
      show BoxN _ _ _ _
      rw [← hX]
      exact HR.out.other (by omega) _
    have HBX : Hid (Below w.heap.size w X) := by
      show Below _ _ _
      rw [← hX]
      repeat (refine Below.setCell ?_ (by dsimp only; omega) _)
      exact HB.out
    clear hX HP HR HB
    go_enter Tryd.func23, Tryd.ntmps23
    go_upto_region 1 with fail
    rw [HE.out]
    clear HE
    go_upto_region 3 with fail
    rw [HEX.out]
    clear HEX c0 c1 c2 c3 f2 f3
    have c0 := HPX.out.cell 0 rfl
    have c1 := HPX.out.cell 1 rfl
    have c2 := HPX.out.cell 2 rfl
    have c3 := HPX.out.cell 3 rfl
    have g0 := HRX.out.cell 0 rfl
    have g1 := HRX.out.cell 1 rfl
    have g2 := HRX.out.cell 2 rfl
    have g3 := HRX.out.cell 3 rfl
    have f0 := HRX.out.frozen 0
    have f1 := HRX.out.frozen 1
    have f2 := HRX.out.frozen 2
    have f3 := HRX.out.frozen 3
    clear HPX HRX
    go_wp2
    refine bodyPost_ret (v := .agg #[.string id, .slice a n ca, .int .i64 6, .int .i64 off]) (by simp [results, Tryd.f23, go_sem, g0, g1, g2, g3]) rfl ?_
    refine ⟨?_, ?_⟩
    · rw [HF.out]
    · repeat (refine Below.setCell ?_ (by dsimp only; omega) _)
      exact HBX.out
  by_cases h2 : r = (n : Int)
  · have HF : Hid (farC n off r = (4, r)) := by show _ = _; rw [farC, if_neg (by omega), if_pos h2]
    have e2 : (r == (n : Int)) = true := by simp [h2]
    clear h0 h2
    obtain ⟨X, hX⟩ : ∃ X, (World.setCell (World.setCell (World.setCell W2 ⟨w.heap.size, 2, none⟩ (.int .i64 3)) ⟨w.heap.size, 3, none⟩ (.int .i64 r)) ⟨w.heap.size, 2, none⟩ (.int .i64 4)) = X := ⟨_, rfl⟩
    have HEX : Hid ((World.setCell (World.setCell (World.setCell W2 ⟨w.heap.size, 2, none⟩ (.int .i64 3)) ⟨w.heap.size, 3, none⟩ (.int .i64 r)) ⟨w.heap.size, 2, none⟩ (.int .i64 4)) = X) := hX
    have HPX : Hid (BoxN X w.heap.size 28 [.string id, .slice a n ca, .int .i64 4, .int .i64 r]) := by
      show BoxN _ _ _ _
      rw [← hX]
      exact ((HP.out.set 2 _).set 3 _).set 2 _
    have HRX : Hid (BoxN X (w.heap.size + 1) 28 [.string ⟨#[]⟩, .slice none 0 0, .int .i64 0, .int .i64 0]) := by
      show BoxN _ _ _ _
      rw [← hX]
      exact ((HR.out.other (by omega) _).other (by omega) _).other (by omega) _
    have HBX : Hid (Below w.heap.size w X) := by
      show Below _ _ _
      rw [← hX]
      repeat (refine Below.setCell ?_ (by dsimp only; omega) _)
      exact HB.out
    clear hX HP HR HB
    go_enter Tryd.func23, Tryd.ntmps23
    go_upto_region 1 with fail
    rw [HE.out]
    clear HE
    go_upto_region 7 with fail
    rw [HEX.out]
    clear HEX c0 c1 c2 c3 f2 f3
    have c0 := HPX.out.cell 0 rfl
    have c1 := HPX.out.cell 1 rfl
    have c2 := HPX.out.cell 2 rfl
    have c3 := HPX.out.cell 3 rfl
    have g0 := HRX.out.cell 0 rfl
    have g1 := HRX.out.cell 1 rfl
    have g2 := HRX.out.cell 2 rfl
    have g3 := HRX.out.cell 3 rfl
    have f0 := HRX.out.frozen 0
    have f1 := HRX.out.frozen 1
    have f2 := HRX.out.frozen 2
    have f3 := HRX.out.frozen 3
    clear HPX HRX
    go_wp2
    refine bodyPost_ret (v := .agg #[.string id, .slice a n ca, .int .i64 4, .int .i64 r]) (by simp [results, Tryd.f23, go_sem, g0, g1, g2, g3]) rfl ?_
    refine ⟨?_, ?_⟩
    · rw [HF.out]
    · repeat (refine Below.setCell ?_ (by dsimp only; omega) _)
      exact HBX.out
  · have HF : Hid (farC n off r = (3, r)) := by show _ = _; rw [farC, if_neg (by omega), if_neg h2]
    have e2 : (r == (n : Int)) = false := by simpa using h2
    clear h0 h2
    obtain ⟨X, hX⟩ : ∃ X, (World.setCell (World.setCell W2 ⟨w.heap.size, 2, none⟩ (.int .i64 3)) ⟨w.heap.size, 3, none⟩ (.int .i64 r)) = X := ⟨_, rfl⟩
    have HEX : Hid ((World.setCell (World.setCell W2 ⟨w.heap.size, 2, none⟩ (.int .i64 3)) ⟨w.heap.size, 3, none⟩ (.int .i64 r)) = X) := hX
    have HPX : Hid (BoxN X w.heap.size 28 [.string id, .slice a n ca, .int .i64 3, .int .i64 r]) := by
      show BoxN _ _ _ _
      rw [← hX]
      exact (HP.out.set 2 _).set 3 _
    have HRX : Hid (BoxN X (w.heap.size + 1) 28 [.string ⟨#[]⟩, .slice none 0 0, .int .i64 0, .int .i64 0]) := by
      show BoxN _ _ _ _
      rw [← hX]
      exact (HR.out.other (by omega) _).other (by omega) _
    have HBX : Hid (Below w.heap.size w X) := by
      show Below _ _ _
      rw [← hX]
      repeat (refine Below.setCell ?_ (by dsimp only; omega) _)
      exact HB.out
    clear hX HP HR HB
    go_enter Tryd.func23, Tryd.ntmps23
    go_upto_region 1 with fail
    rw [HE.out]
    clear HE
    go_upto_region 7 with fail
    rw [HEX.out]
    clear HEX c0 c1 c2 c3 f2 f3
    have c0 := HPX.out.cell 0 rfl
    have c1 := HPX.out.cell 1 rfl
    have c2 := HPX.out.cell 2 rfl
    have c3 := HPX.out.cell 3 rfl
    have g0 := HRX.out.cell 0 rfl
    have g1 := HRX.out.cell 1 rfl
    have g2 := HRX.out.cell 2 rfl
    have g3 := HRX.out.cell 3 rfl
    have f0 := HRX.out.frozen 0
    have f1 := HRX.out.frozen 1
    have f2 := HRX.out.frozen 2
    have f3 := HRX.out.frozen 3
    clear HPX HRX
    go_wp2
    refine bodyPost_ret (v := .agg #[.string id, .slice a n ca, .int .i64 3, .int .i64 r]) (by simp [results, Tryd.f23, go_sem, g0, g1, g2, g3]) rfl ?_
    refine ⟨?_, ?_⟩
    · rw [HF.out]
    · repeat (refine Below.setCell ?_ (by dsimp only; omega) _)
      exact HBX.out

end Go.Proofs.YtlalebaaabdihaxDoor
