/- The program's reader of bits: a closure over the bytes and a place. -/
import Derived.Test.YtljhplddgcmmoabHimHuff
namespace Go.Proofs.Ytljhplddgcmmoab
open Go.RowKit
set_option linter.unusedVariables false

/-- A variable of its own that holds this value. -/
def Var (w : World) (b : Nat) (t : TypeId) (v : Value) : Prop := w.heap[b]? = some (.cells #[v] t (0, 0))
theorem Var.lt {w : World} {b : Nat} {t : TypeId} {v : Value} (h : Var w b t v) : b < w.heap.size := (Array.getElem?_eq_some_iff.1 h).1
theorem Var.cell {w : World} {b : Nat} {t : TypeId} {v : Value} (h : Var w b t v) : w.cell? ⟨b, 0, none⟩ = some v := by
  rw [cell_of_row w b 0 _ t (0, 0) h]
  rfl
theorem Var.frozen {w : World} {b : Nat} {t : TypeId} {v : Value} (h : Var w b t v) : w.frozen? ⟨b, 0, none⟩ = false := by
  have h' : w.heap[b]? = some (.cells #[v] t (0, 0)) := h
  simp [World.frozen?, h']
theorem Var.alloc {w : World} {b : Nat} {t : TypeId} {v : Value} (h : Var w b t v) (o : Obj) : Var (w.alloc o) b t v := heap_kept h o
theorem Var.set {w : World} {b : Nat} {t : TypeId} {v : Value} (h : Var w b t v) (u : Value) : Var (w.setCell ⟨b, 0, none⟩ u) b t u := by
  show _ = _
  rw [setCell_eq_setRow w b 0 _ t (0, 0) _ h, setRow_heap w b _ _ t (0, 0) h]
  rfl
theorem Var.set_other {w : World} {b b' : Nat} {t : TypeId} {v : Value} (h : Var w b t v) (k : Nat) (u : Value) (hne : b ≠ b') : Var (w.setCell ⟨b', k, none⟩ u) b t v := by
  show _ = _
  have h' : w.heap[b]? = some (.cells #[v] t (0, 0)) := h
  simp [World.setCell, Array.getElem?_modify, Ne.symm hne, h']

set_option maxHeartbeats 400000 in
theorem bitsOf_any (a : Option Addr) (len cap : Nat) (w : World) :
    Calls Try.prog 47 #[.slice a len cap] w fun e w' => e = .returned (.func (.func 72) #[] #[.pointer (some ⟨w.heap.size + 1, 0, none⟩), .pointer (some ⟨w.heap.size, 0, none⟩)]) ∧ w' = (w.alloc (.cells #[.slice a len cap] 22)).alloc (.cells #[.int .i64 0] 3) := by
  go_enter Try.func47, Try.ntmps47
  go_wp2
  go_ret
  exact ⟨rfl, rfl⟩

set_option maxRecDepth 10000 in
set_option maxHeartbeats 800000 in
theorem next_end (p q : Nat) (a : Option Addr) (len cap : Nat) (w : World) (hp : Var w p 3 (.int .i64 ((8 * len : Nat) : Int))) (hq : Var w q 22 (.slice a len cap)) (hl : len ≤ 1099511627776) :
    Calls Try.prog 72 #[.pointer (some ⟨p, 0, none⟩), .pointer (some ⟨q, 0, none⟩)] w fun e w' => e = .returned (.tuple #[.int .i64 0, .bool false]) ∧ w' = w := by
  have cp := hp.cell
  have cq := hq.cell
  have hli : (len : Int) ≤ 1099511627776 := by omega
  have e8 : ((8 * len : Nat) : Int) = (len : Int) * 8 := by omega
  rw [e8] at cp
  clear hp hq e8
  go_enter Try.func72, Try.ntmps72
  go_wp2_with fail
  go_ret2
  exact ⟨rfl, rfl⟩

set_option maxRecDepth 10000 in
set_option maxHeartbeats 800000 in
theorem next_bit (p q k : Nat) (a : Option Addr) (len cap : Nat) (zs : List Int) (w : World) (hp : Var w p 3 (.int .i64 (k : Int))) (hq : Var w q 22 (.slice a len cap)) (hs : Seg w a len zs) (hl : len ≤ 1099511627776) (hk : k < 8 * len) :
    Calls Try.prog 72 #[.pointer (some ⟨p, 0, none⟩), .pointer (some ⟨q, 0, none⟩)] w fun e w' => e = .returned (.tuple #[.int .i64 (bitAt zs k : Int), .bool true]) ∧ ∃ n, w' = (w.drewN n).setCell ⟨p, 0, none⟩ (.int .i64 ((k : Int) + 1)) := by
  have cp := hp.cell
  have fp := hp.frozen
  have cq := hq.cell
  have hli : (len : Int) ≤ 1099511627776 := by omega
  have hki : (k : Int) < (len : Int) * 8 := by omega
  obtain ⟨b, off, rfl, hb, hcell⟩ : ∃ b off, a = some ⟨b, off, none⟩ ∧ b < w.heap.size ∧ w.cell? ⟨b, off + k / 8, none⟩ = some (.int .u8 (zs.getD (k / 8) 0)) := by
    rcases hs.2.2 with h0 | ⟨b, off, e, hb, hc⟩
    · omega
    · exact ⟨b, off, e, hb, hc (k / 8) (by omega)⟩
  have hrg := hs.range (k / 8)
  obtain ⟨X, hX⟩ := Int.eq_ofNat_of_zero_le hrg.1
  rw [hX] at hcell hrg
  have hx1 : (X : Int) ≤ 255 := hrg.2
  have hbit : bitAt zs k = X / 2 ^ (7 - k % 8) % 2 := by unfold bitAt; rw [hX, Int.toNat_natCast]
  have hand : bits .and .u8 ((X : Int) / 2 ^ (7 - k % 8)) 1 = (bitAt zs k : Int) := by
    have e1 : (X : Int) / 2 ^ (7 - k % 8) = ((X / 2 ^ (7 - k % 8) : Nat) : Int) := by simp
    have h2 : X / 2 ^ (7 - k % 8) ≤ X := Nat.div_le_self _ _
    rw [e1, hbit]
    have := u8_and_nat (X / 2 ^ (7 - k % 8)) 1 (by omega) (by omega)
    rw [Nat.and_one_is_mod] at this
    exact this
  have hb1 := bitAt_le zs k
  clear hs hp hq hrg hX hbit
  generalize bitAt zs k = B at *
  have hB1 : (B : Int) ≤ 1 := by omega
  go_enter Try.func72, Try.ntmps72
  go_wp2_with fail
  go_quiet (fail)
  have cp2 : (w.drewN nq).cell? ⟨p, 0, none⟩ = some (.int .i64 (k : Int)) := cp
  have fp2 : (w.drewN nq).frozen? ⟨p, 0, none⟩ = false := fp
  clear cp fp cq hcell hand
  go_wp2_with fail
  go_ret2
  exact ⟨rfl, nq, rfl⟩

end Go.Proofs.Ytljhplddgcmmoab
