/- What the laws' own functions do with what is gathered: the copy, the size, the comparison. -/
import Derived.Test.YtckpacifimpkgaoDoorBox3
import Derived.Test.YtckpacifimpkgaoDoorWalkB
namespace Go.Proofs.YtckpacifimpkgaoDoor
open Go.RowKit
set_option linter.unusedVariables false

set_option maxHeartbeats 800000 in
theorem eqGather_same (s : Int) (e : Bool) (a b : Option Addr) (len ca cb : Nat) (xs : List Int) (w : World) (hx : Seg w a len xs) (hy : Seg w b len xs) (hla : len ≤ 1099511627776) :
    Calls Tryd.prog 10 #[.agg #[.int .i64 s, .bool e, .slice a len ca], .agg #[.int .i64 s, .bool e, .slice b len cb]] w fun r w' => r = .returned (.bool true) ∧ Below w.heap.size w w' := by
  have HX : Hid (Seg w a len xs) := hx
  have HY : Hid (Seg w b len xs) := hy
  clear hx hy
  have n0 : (s != s) = false := by simp
  have n1 : (e != e) = false := by simp
  go_enter Tryd.func10, Tryd.ntmps10
  go_wp2_with fail
  have hba : Below w.heap.size w ((w.alloc (Obj.cells #[Value.int IntKind.i64 s, Value.bool e, Value.slice a len ca] 29)).alloc (Obj.cells #[Value.int IntKind.i64 s, Value.bool e, Value.slice b len cb] 29)) := ((Below.refl _ _).alloc (Nat.le_refl _) _).alloc (by simp) _
  refine (eqByteS_same a b len ca cb xs _ (HX.out.below hba) (HY.out.below hba) hla).mono ?_
  rintro r x3 ⟨rfl, st3⟩
  have HB3 : Hid (Below w.heap.size w x3) := Still.below st3 hba
  clear st3 hba
  go_wp2
  go_ret
  exact ⟨rfl, HB3.out⟩

set_option maxHeartbeats 800000 in
theorem szGather_any (s : Int) (e : Bool) (a : Option Addr) (len cap : Nat) (n : Int) (w : World) (hn : 0 ≤ n) (hn2 : n ≤ 1048576) (hl : len ≤ maxLen) :
    Calls Tryd.prog 4 #[.agg #[.int .i64 s, .bool e, .slice a len cap], .int .i64 n] w fun r w' => r = .returned (.int .i64 (if n - len < 0 then -1 else n - len)) ∧ Below w.heap.size w w' := by
  have hm : maxLen < 9223372036854775808 := by decide
  by_cases h : n - len < 0
  · rw [if_pos h]
    go_enter Tryd.func4, Tryd.ntmps4
    go_wp2
    go_ret
    exact ⟨rfl, (Below.refl _ _).alloc (Nat.le_refl _) _⟩
  · rw [if_neg h]
    go_enter Tryd.func4, Tryd.ntmps4
    go_wp2
    go_ret
    exact ⟨rfl, (Below.refl _ _).alloc (Nat.le_refl _) _⟩

set_option maxHeartbeats 800000 in
theorem toGather_any (s : Int) (e : Bool) (a : Option Addr) (len cap : Nat) (zs : List Int) (w : World) (hs : Seg w a len zs) (hl : len ≤ 1048576) :
    Calls Tryd.prog 7 #[.agg #[.int .i64 s, .bool e, .slice a len cap]] w fun r w' => ∃ g, r = .returned (.agg #[.int .i64 s, .bool e, .slice (some ⟨g, 0, none⟩) len len]) ∧ w.heap.size ≤ g ∧ Owns w' w.heap.size (some ⟨g, 0, none⟩) len len zs ∧ Below w.heap.size w w' := by
  have HS : Hid (Seg w a len zs) := hs
  clear hs
  go_enter Tryd.func7, Tryd.ntmps7
  go_wp2_with fail
  have hba : Below w.heap.size w (((w.alloc (Obj.cells #[Value.int IntKind.i64 s, Value.bool e, Value.slice a len cap] 24)).alloc (Obj.cells #[Value.int IntKind.i64 0, Value.bool false, Value.slice none 0 0] 29)).alloc (Obj.cells #[Value.int IntKind.i64 s, Value.bool e, Value.slice none 0 0] 29)) := (((Below.refl _ _).alloc (Nat.le_refl _) _).alloc (by simp) _).alloc (by simp; omega) _
  refine (toByteS_any a len cap zs _ (HS.out.below hba) (by omega)).mono ?_
  rintro r x3 ⟨rfl, ho3, hb3⟩
  rw [show (((w.alloc (Obj.cells #[Value.int IntKind.i64 s, Value.bool e, Value.slice a len cap] 24)).alloc (Obj.cells #[Value.int IntKind.i64 0, Value.bool false, Value.slice none 0 0] 29)).alloc (Obj.cells #[Value.int IntKind.i64 s, Value.bool e, Value.slice none 0 0] 29)).heap.size = w.heap.size + 1 + 1 + 1 by simp] at ho3 hb3 ⊢
  have HB3 : Hid (Below w.heap.size w x3) := hba.trans (hb3.mono (by omega))
  have HO3 : Hid (x3.ownsRow (w.heap.size + 1 + 1 + 1) 5 1 (.slice (some ⟨w.heap.size + 1 + 1 + 1, 0, none⟩) len len) len (zs.map (Value.int .u8))) := ho3
  have a0 : x3.cell? ⟨w.heap.size + 1, 0, none⟩ = some (.int .i64 0) := (hb3.cell (p := ⟨_, _, none⟩) (by dsimp only; omega)).trans (by simp [go_sem])
  have fa0 : x3.frozen? ⟨w.heap.size + 1, 0, none⟩ = false := (hb3.frozen (p := ⟨_, _, none⟩) (by dsimp only; omega)).trans (by simp [go_sem])
  have a1 : x3.cell? ⟨w.heap.size + 1, 1, none⟩ = some (.bool false) := (hb3.cell (p := ⟨_, _, none⟩) (by dsimp only; omega)).trans (by simp [go_sem])
  have fa1 : x3.frozen? ⟨w.heap.size + 1, 1, none⟩ = false := (hb3.frozen (p := ⟨_, _, none⟩) (by dsimp only; omega)).trans (by simp [go_sem])
  have a2 : x3.cell? ⟨w.heap.size + 1, 2, none⟩ = some (.slice none 0 0) := (hb3.cell (p := ⟨_, _, none⟩) (by dsimp only; omega)).trans (by simp [go_sem])
  have fa2 : x3.frozen? ⟨w.heap.size + 1, 2, none⟩ = false := (hb3.frozen (p := ⟨_, _, none⟩) (by dsimp only; omega)).trans (by simp [go_sem])
  have b0 : x3.cell? ⟨w.heap.size + 1 + 1, 0, none⟩ = some (.int .i64 s) := (hb3.cell (p := ⟨_, _, none⟩) (by dsimp only; omega)).trans (by simp [go_sem])
  have b1 : x3.cell? ⟨w.heap.size + 1 + 1, 1, none⟩ = some (.bool e) := (hb3.cell (p := ⟨_, _, none⟩) (by dsimp only; omega)).trans (by simp [go_sem])
  have b2 : x3.cell? ⟨w.heap.size + 1 + 1, 2, none⟩ = some (.slice none 0 0) := (hb3.cell (p := ⟨_, _, none⟩) (by dsimp only; omega)).trans (by simp [go_sem])
  have fb2 : x3.frozen? ⟨w.heap.size + 1 + 1, 2, none⟩ = false := (hb3.frozen (p := ⟨_, _, none⟩) (by dsimp only; omega)).trans (by simp [go_sem])
  clear hb3 hba ho3
  go_wp2
  refine bodyPost_ret (v := .agg #[.int .i64 s, .bool e, .slice (some ⟨w.heap.size + 1 + 1 + 1, 0, none⟩) len len]) (by simp [results, Tryd.f7, go_sem, a0, a1, a2]) rfl ?_
  refine ⟨_, rfl, by omega, ⟨?_, HS.out.2.1⟩, ?_⟩
  · refine own_low (base := w.heap.size + 1 + 1 + 1) ?_ (by omega)
    exact ownsRow_setCell_below (ownsRow_setCell_below (ownsRow_setCell_below (ownsRow_setCell_below HO3.out (by dsimp only; omega) _) (by dsimp only; omega) _) (by dsimp only; omega) _) (by dsimp only; omega) _
  · exact (((HB3.out.setCell (by dsimp only; omega) _).setCell (by dsimp only; omega) _).setCell (by dsimp only; omega) _).setCell (by dsimp only; omega) _

end Go.Proofs.YtckpacifimpkgaoDoor
