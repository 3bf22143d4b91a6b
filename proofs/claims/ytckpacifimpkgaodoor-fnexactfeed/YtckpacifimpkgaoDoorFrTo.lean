/- What the laws' own functions do with frames: the copy, the size, the comparison. -/
import Derived.Test.YtckpacifimpkgaoDoorBox4
import Derived.Test.YtckpacifimpkgaoDoorWalkB
import Derived.Test.YtckpacifimpkgaoDoorFrEq
namespace Go.Proofs.YtckpacifimpkgaoDoor
open Go.RowKit
set_option linter.unusedVariables false

set_option maxHeartbeats 800000 in
theorem szFrame_any (k f s : Int) (a : Option Addr) (len cap : Nat) (n : Int) (w : World) (hn : 0 ≤ n) (hn2 : n ≤ 1048576) (hl : len ≤ maxLen) :
    Calls Tryd.prog 5 #[.agg #[.int .i64 k, .int .i64 f, .int .i64 s, .slice a len cap], .int .i64 n] w fun e w' => e = .returned (.int .i64 (if n - len < 0 then -1 else n - len)) ∧ Below w.heap.size w w' := by
  have hm : maxLen < 9223372036854775808 := by decide
  by_cases h : n - len < 0
  · rw [if_pos h]
    go_enter Tryd.func5, Tryd.ntmps5
    go_wp2
    go_ret
    exact ⟨rfl, (Below.refl _ _).alloc (Nat.le_refl _) _⟩
  · rw [if_neg h]
    go_enter Tryd.func5, Tryd.ntmps5
    go_wp2
    go_ret
    exact ⟨rfl, (Below.refl _ _).alloc (Nat.le_refl _) _⟩

set_option maxHeartbeats 800000 in
theorem toFrame_any (k f s : Int) (a : Option Addr) (len cap : Nat) (zs : List Int) (w : World) (hs : Seg w a len zs) (hl : len ≤ 1048576) :
    Calls Tryd.prog 8 #[.agg #[.int .i64 k, .int .i64 f, .int .i64 s, .slice a len cap]] w fun e w' => ∃ g, e = .returned (.agg #[.int .i64 k, .int .i64 f, .int .i64 s, .slice (some ⟨g, 0, none⟩) len len]) ∧ w.heap.size ≤ g ∧ Owns w' w.heap.size (some ⟨g, 0, none⟩) len len zs ∧ Below w.heap.size w w' := by
  have HS : Hid (Seg w a len zs) := hs
  clear hs
  go_enter Tryd.func8, Tryd.ntmps8
  go_wp2_with fail
  have hba : Below w.heap.size w (((w.alloc (Obj.cells #[Value.int IntKind.i64 k, Value.int IntKind.i64 f, Value.int IntKind.i64 s, Value.slice a len cap] 26)).alloc (Obj.cells #[Value.int IntKind.i64 0, Value.int IntKind.i64 0, Value.int IntKind.i64 0, Value.slice none 0 0] 33)).alloc (Obj.cells #[Value.int IntKind.i64 k, Value.int IntKind.i64 f, Value.int IntKind.i64 s, Value.slice none 0 0] 33)) := (((Below.refl _ _).alloc (Nat.le_refl _) _).alloc (by simp) _).alloc (by simp; omega) _
  refine (toByteS_any a len cap zs _ (HS.out.below hba) (by omega)).mono ?_
  rintro e x3 ⟨rfl, ho3, hb3⟩
  rw [show (((w.alloc (Obj.cells #[Value.int IntKind.i64 k, Value.int IntKind.i64 f, Value.int IntKind.i64 s, Value.slice a len cap] 26)).alloc (Obj.cells #[Value.int IntKind.i64 0, Value.int IntKind.i64 0, Value.int IntKind.i64 0, Value.slice none 0 0] 33)).alloc (Obj.cells #[Value.int IntKind.i64 k, Value.int IntKind.i64 f, Value.int IntKind.i64 s, Value.slice none 0 0] 33)).heap.size = w.heap.size + 1 + 1 + 1 by simp] at ho3 hb3 ⊢
  have HB3 : Hid (Below w.heap.size w x3) := hba.trans (hb3.mono (by omega))
  have HO3 : Hid (x3.ownsRow (w.heap.size + 1 + 1 + 1) 5 1 (.slice (some ⟨w.heap.size + 1 + 1 + 1, 0, none⟩) len len) len (zs.map (Value.int .u8))) := ho3
  have a0 : x3.cell? ⟨w.heap.size + 1, 0, none⟩ = some (.int .i64 0) := (hb3.cell (p := ⟨_, _, none⟩) (by dsimp only; omega)).trans (by simp [go_sem])
  have fa0 : x3.frozen? ⟨w.heap.size + 1, 0, none⟩ = false := (hb3.frozen (p := ⟨_, _, none⟩) (by dsimp only; omega)).trans (by simp [go_sem])
  have a1 : x3.cell? ⟨w.heap.size + 1, 1, none⟩ = some (.int .i64 0) := (hb3.cell (p := ⟨_, _, none⟩) (by dsimp only; omega)).trans (by simp [go_sem])
  have fa1 : x3.frozen? ⟨w.heap.size + 1, 1, none⟩ = false := (hb3.frozen (p := ⟨_, _, none⟩) (by dsimp only; omega)).trans (by simp [go_sem])
  have a2 : x3.cell? ⟨w.heap.size + 1, 2, none⟩ = some (.int .i64 0) := (hb3.cell (p := ⟨_, _, none⟩) (by dsimp only; omega)).trans (by simp [go_sem])
  have fa2 : x3.frozen? ⟨w.heap.size + 1, 2, none⟩ = false := (hb3.frozen (p := ⟨_, _, none⟩) (by dsimp only; omega)).trans (by simp [go_sem])
  have a3 : x3.cell? ⟨w.heap.size + 1, 3, none⟩ = some (.slice none 0 0) := (hb3.cell (p := ⟨_, _, none⟩) (by dsimp only; omega)).trans (by simp [go_sem])
  have fa3 : x3.frozen? ⟨w.heap.size + 1, 3, none⟩ = false := (hb3.frozen (p := ⟨_, _, none⟩) (by dsimp only; omega)).trans (by simp [go_sem])
  have b0 : x3.cell? ⟨w.heap.size + 1 + 1, 0, none⟩ = some (.int .i64 k) := (hb3.cell (p := ⟨_, _, none⟩) (by dsimp only; omega)).trans (by simp [go_sem])
  have b1 : x3.cell? ⟨w.heap.size + 1 + 1, 1, none⟩ = some (.int .i64 f) := (hb3.cell (p := ⟨_, _, none⟩) (by dsimp only; omega)).trans (by simp [go_sem])
  have b2 : x3.cell? ⟨w.heap.size + 1 + 1, 2, none⟩ = some (.int .i64 s) := (hb3.cell (p := ⟨_, _, none⟩) (by dsimp only; omega)).trans (by simp [go_sem])
  have b3 : x3.cell? ⟨w.heap.size + 1 + 1, 3, none⟩ = some (.slice none 0 0) := (hb3.cell (p := ⟨_, _, none⟩) (by dsimp only; omega)).trans (by simp [go_sem])
  have fb3 : x3.frozen? ⟨w.heap.size + 1 + 1, 3, none⟩ = false := (hb3.frozen (p := ⟨_, _, none⟩) (by dsimp only; omega)).trans (by simp [go_sem])
  clear hb3 hba ho3
  go_wp2
  refine bodyPost_ret (v := .agg #[.int .i64 k, .int .i64 f, .int .i64 s, .slice (some ⟨w.heap.size + 1 + 1 + 1, 0, none⟩) len len]) (by simp [results, Tryd.f8, go_sem, a0, a1, a2, a3]) rfl ?_
  refine ⟨_, rfl, by omega, ⟨?_, HS.out.2.1⟩, ?_⟩
  · refine own_low (base := w.heap.size + 1 + 1 + 1) ?_ (by omega)
    exact ownsRow_setCell_below (ownsRow_setCell_below (ownsRow_setCell_below (ownsRow_setCell_below (ownsRow_setCell_below HO3.out (by dsimp only; omega) _) (by dsimp only; omega) _) (by dsimp only; omega) _) (by dsimp only; omega) _) (by dsimp only; omega) _
  · exact ((((HB3.out.setCell (by dsimp only; omega) _).setCell (by dsimp only; omega) _).setCell (by dsimp only; omega) _).setCell (by dsimp only; omega) _).setCell (by dsimp only; omega) _

end Go.Proofs.YtckpacifimpkgaoDoor
