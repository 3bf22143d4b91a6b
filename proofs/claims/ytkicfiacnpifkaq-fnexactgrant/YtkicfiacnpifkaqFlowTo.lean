/- What the laws' own functions do with a flow: the copy, the size, the comparison. -/
import Derived.Test.YtkicfiacnpifkaqBox3
import Derived.Test.YtkicfiacnpifkaqLaneTo
namespace Go.Proofs.Ytkicfiacnpifkaq
open Go.RowKit
set_option linter.unusedVariables false

set_option maxHeartbeats 800000 in
theorem eqFlow_same (s : Int) (e : Int) (a b : Option Addr) (len ca cb : Nat) (xs : List Lane) (w : World) (hx : Lanes w a len xs) (hy : Lanes w b len xs) (hla : len ≤ 1099511627776) :
    Calls Try.prog 9 #[.agg #[.int .i64 s, .int .i64 e, .slice a len ca], .agg #[.int .i64 s, .int .i64 e, .slice b len cb]] w fun r w' => r = .returned (.bool true) ∧ Below w.heap.size w w' := by
  have HX : Hid (Lanes w a len xs) := hx
  have HY : Hid (Lanes w b len xs) := hy
  clear hx hy
  have n0 : (s != s) = false := by simp
  have n1 : (e != e) = false := by simp
  go_enter Try.func9, Try.ntmps9
  go_wp2_with fail
  have hba : Below w.heap.size w ((w.alloc (Obj.cells #[Value.int IntKind.i64 s, Value.int .i64 e, Value.slice a len ca] 28)).alloc (Obj.cells #[Value.int IntKind.i64 s, Value.int .i64 e, Value.slice b len cb] 28)) := ((Below.refl _ _).alloc (Nat.le_refl _) _).alloc (by simp) _
  refine (eqLaneS_same a b len ca cb xs _ (HX.out.below hba) (HY.out.below hba) hla).mono ?_
  rintro r x3 ⟨rfl, hb3⟩
  have HB3 : Hid (Below w.heap.size w x3) := hba.trans (hb3.mono hba.size)
  clear hb3 hba
  go_wp2
  go_ret
  exact ⟨rfl, HB3.out⟩

set_option maxHeartbeats 800000 in
theorem szFlow_any (s : Int) (e : Int) (a : Option Addr) (len cap : Nat) (n : Int) (w : World) (hn : 0 ≤ n) (hn2 : n ≤ 1048576) (hl : len ≤ maxLen) :
    Calls Try.prog 5 #[.agg #[.int .i64 s, .int .i64 e, .slice a len cap], .int .i64 n] w fun r w' => r = .returned (.int .i64 (if n - len < 0 then -1 else n - len)) ∧ Below w.heap.size w w' := by
  have hm : maxLen < 9223372036854775808 := by decide
  by_cases h : n - len < 0
  · rw [if_pos h]
    go_enter Try.func5, Try.ntmps5
    go_wp2
    go_ret
    exact ⟨rfl, (Below.refl _ _).alloc (Nat.le_refl _) _⟩
  · rw [if_neg h]
    go_enter Try.func5, Try.ntmps5
    go_wp2
    go_ret
    exact ⟨rfl, (Below.refl _ _).alloc (Nat.le_refl _) _⟩

set_option maxHeartbeats 800000 in
theorem toFlow_any (s : Int) (e : Int) (a : Option Addr) (len cap : Nat) (zs : List Lane) (w : World) (hs : Lanes w a len zs) (hl : len ≤ 1048576) :
    Calls Try.prog 7 #[.agg #[.int .i64 s, .int .i64 e, .slice a len cap]] w fun r w' => ∃ g, r = .returned (.agg #[.int .i64 s, .int .i64 e, .slice (some ⟨g, 0, none⟩) len len]) ∧ w.heap.size ≤ g ∧ OwnL w' w.heap.size (some ⟨g, 0, none⟩) len len zs ∧ Below w.heap.size w w' := by
  have HS : Hid (Lanes w a len zs) := hs
  clear hs
  go_enter Try.func7, Try.ntmps7
  go_wp2_with fail
  have hba : Below w.heap.size w (((w.alloc (Obj.cells #[Value.int IntKind.i64 s, Value.int .i64 e, Value.slice a len cap] 24)).alloc (Obj.cells #[Value.int IntKind.i64 0, Value.int IntKind.i64 0, Value.slice none 0 0] 28)).alloc (Obj.cells #[Value.int IntKind.i64 s, Value.int .i64 e, Value.slice none 0 0] 28)) := (((Below.refl _ _).alloc (Nat.le_refl _) _).alloc (by simp) _).alloc (by simp; omega) _
  refine (toLaneS_own a len cap zs _ (HS.out.below hba) hl).mono ?_
  rintro r x3 ⟨rfl, ho3, hb3⟩
  rw [show (((w.alloc (Obj.cells #[Value.int IntKind.i64 s, Value.int .i64 e, Value.slice a len cap] 24)).alloc (Obj.cells #[Value.int IntKind.i64 0, Value.int IntKind.i64 0, Value.slice none 0 0] 28)).alloc (Obj.cells #[Value.int IntKind.i64 s, Value.int .i64 e, Value.slice none 0 0] 28)).heap.size = w.heap.size + 1 + 1 + 1 by simp] at ho3 hb3 ⊢
  have HB3 : Hid (Below w.heap.size w x3) := hba.trans (hb3.mono (by omega))
  have HO3 : Hid (x3.ownsRow (w.heap.size + 1 + 1 + 1) 41 2 (.slice (some ⟨w.heap.size + 1 + 1 + 1, 0, none⟩) len len) len (laneCells zs)) := ho3.1
  have a0 : x3.cell? ⟨w.heap.size + 1, 0, none⟩ = some (.int .i64 0) := (hb3.cell (p := ⟨_, _, none⟩) (by dsimp only; omega)).trans (by simp [go_sem])
  have fa0 : x3.frozen? ⟨w.heap.size + 1, 0, none⟩ = false := (hb3.frozen (p := ⟨_, _, none⟩) (by dsimp only; omega)).trans (by simp [go_sem])
  have a1 : x3.cell? ⟨w.heap.size + 1, 1, none⟩ = some (.int .i64 0) := (hb3.cell (p := ⟨_, _, none⟩) (by dsimp only; omega)).trans (by simp [go_sem])
  have fa1 : x3.frozen? ⟨w.heap.size + 1, 1, none⟩ = false := (hb3.frozen (p := ⟨_, _, none⟩) (by dsimp only; omega)).trans (by simp [go_sem])
  have a2 : x3.cell? ⟨w.heap.size + 1, 2, none⟩ = some (.slice none 0 0) := (hb3.cell (p := ⟨_, _, none⟩) (by dsimp only; omega)).trans (by simp [go_sem])
  have fa2 : x3.frozen? ⟨w.heap.size + 1, 2, none⟩ = false := (hb3.frozen (p := ⟨_, _, none⟩) (by dsimp only; omega)).trans (by simp [go_sem])
  have b0 : x3.cell? ⟨w.heap.size + 1 + 1, 0, none⟩ = some (.int .i64 s) := (hb3.cell (p := ⟨_, _, none⟩) (by dsimp only; omega)).trans (by simp [go_sem])
  have b1 : x3.cell? ⟨w.heap.size + 1 + 1, 1, none⟩ = some (.int .i64 e) := (hb3.cell (p := ⟨_, _, none⟩) (by dsimp only; omega)).trans (by simp [go_sem])
  have b2 : x3.cell? ⟨w.heap.size + 1 + 1, 2, none⟩ = some (.slice none 0 0) := (hb3.cell (p := ⟨_, _, none⟩) (by dsimp only; omega)).trans (by simp [go_sem])
  have fb2 : x3.frozen? ⟨w.heap.size + 1 + 1, 2, none⟩ = false := (hb3.frozen (p := ⟨_, _, none⟩) (by dsimp only; omega)).trans (by simp [go_sem])
  clear hb3 hba ho3
  go_wp2
  refine bodyPost_ret (v := .agg #[.int .i64 s, .int .i64 e, .slice (some ⟨w.heap.size + 1 + 1 + 1, 0, none⟩) len len]) (by simp [results, Try.f7, go_sem, a0, a1, a2]) rfl ?_
  refine ⟨_, rfl, by omega, ⟨?_, HS.out.2.1⟩, ?_⟩
  · refine own_low (base := w.heap.size + 1 + 1 + 1) ?_ (by omega)
    exact ownsRow_setCell_below (ownsRow_setCell_below (ownsRow_setCell_below (ownsRow_setCell_below HO3.out (by dsimp only; omega) _) (by dsimp only; omega) _) (by dsimp only; omega) _) (by dsimp only; omega) _
  · exact (((HB3.out.setCell (by dsimp only; omega) _).setCell (by dsimp only; omega) _).setCell (by dsimp only; omega) _).setCell (by dsimp only; omega) _

end Go.Proofs.Ytkicfiacnpifkaq
