/- What the program's cutAt answers: a part of bytes. -/
import Derived.Test.YtenkpgnkkkgdmaeDoorOwn
namespace Go.Proofs.YtenkpgnkkkgdmaeDoor
open Go.RowKit
set_option linter.unusedVariables false

theorem Seg.part {w : World} {b off len : Nat} {zs : List Int} (h : Seg w (some ⟨b, off, none⟩) len zs) (T n : Nat) (hT : T + n ≤ len) : Seg w (some ⟨b, off + T, none⟩) n ((zs.drop T).take n) := by
  have hl := h.1
  refine ⟨by rw [List.length_take, List.length_drop]; omega, fun x hx => h.2.1 x (List.mem_of_mem_drop (List.mem_of_mem_take hx)), ?_⟩
  rcases h.2.2 with h0 | ⟨b', off', e, hb, hc⟩
  · exact .inl (by omega)
  · simp only [Option.some.injEq, Addr.mk.injEq, and_true] at e
    obtain ⟨rfl, rfl⟩ := e
    refine .inr ⟨b, off + T, rfl, hb, fun i hi => ?_⟩
    rw [Nat.add_assoc, hc (T + i) (by omega)]
    rw [List.getD_eq_getElem?_getD, List.getD_eq_getElem?_getD, List.getElem?_take, if_pos hi, List.getElem?_drop]

theorem row_alloc {W : World} {b : Nat} {x : Obj} (h : W.heap[b]? = some x) (o : Obj) : (W.alloc o).heap[b]? = some x := by
  have hl := (Array.getElem?_eq_some_iff.1 h).1
  show (W.heap.push o)[b]? = _
  rw [Array.getElem?_push, if_neg (by omega)]
  exact h

theorem Seg.zero {w : World} (a : Option Addr) (zs : List Int) (T : Nat) : Seg w a 0 ((zs.drop T).take 0) := ⟨by simp, by simp, .inl rfl⟩

set_option maxHeartbeats 800000 in
theorem cut_no (a : Option Addr) (len cap n : Nat) (at_ : Int) (w : World) (hl : len ≤ 1099511627776) (hn : n ≤ 1099511627776) (ha : -9223372036854775808 ≤ at_ ∧ at_ ≤ 9223372036854775807) (h : ¬ (0 ≤ at_ ∧ at_ + n ≤ (len : Int))) :
    Calls Tryd.prog 91 #[.slice a len cap, .int .i64 at_, .int .i64 n] w fun e w' => e = .returned (.tuple #[.slice none 0 0, .bool false]) ∧ w' = w := by
  obtain ⟨ha0, ha1⟩ := ha
  by_cases h0 : at_ < 0
  · clear h
    go_enter Tryd.func91, Tryd.ntmps91
    go_wp2
    go_ret2
    exact ⟨rfl, rfl⟩
  · have h1 : (len : Int) - n < at_ := by omega
    clear h
    go_enter Tryd.func91, Tryd.ntmps91
    go_wp2
    go_ret2
    exact ⟨rfl, rfl⟩

set_option maxHeartbeats 800000 in
theorem cut_yes (a : Option Addr) (len cap n T : Nat) (zs : List Int) (w : World) (hs : Seg w a len zs) (hc : len ≤ cap) (hl : len ≤ 1099511627776) (h : T + n ≤ len) :
    Calls Tryd.prog 91 #[.slice a len cap, .int .i64 T, .int .i64 n] w fun e w' => ∃ a', e = .returned (.tuple #[.slice a' n n, .bool true]) ∧ Seg w a' n ((zs.drop T).take n) ∧ w' = w := by
  have HS : Hid (Seg w a len zs) := hs
  clear hs
  have h1 : ¬ (len : Int) - n < T := by omega
  by_cases h0 : n = 0
  · subst h0
    cases a with
    | none =>
      have hl0 : len = 0 := by
        rcases HS.out.2.2 with h | ⟨b, off, e, _⟩
        · exact h
        · cases e
      subst hl0
      obtain rfl : T = 0 := by omega
      go_enter Tryd.func91, Tryd.ntmps91
      go_wp2
      go_ret2
      exact ⟨_, rfl, Seg.zero none zs 0, rfl⟩
    | some ad =>
      go_enter Tryd.func91, Tryd.ntmps91
      go_wp2
      go_ret2
      exact ⟨_, rfl, Seg.zero (some ad) zs T, rfl⟩
  · obtain ⟨b, off, rfl⟩ : ∃ b off, a = some ⟨b, off, none⟩ := by
      rcases HS.out.2.2 with h | ⟨b, off, e, _⟩
      · omega
      · exact ⟨b, off, e⟩
    go_enter Tryd.func91, Tryd.ntmps91
    go_wp2
    go_ret2
    exact ⟨_, rfl, HS.out.part T n h, rfl⟩

end Go.Proofs.YtenkpgnkkkgdmaeDoor
