/- Reading bits in a loop: what stands in memory, and what one more bit does to it. -/
import Derived.Test.YtljhplddgcmmoabHimBits
import Derived.Test.YtljhplddgcmmoabHimRead
import Derived.OneCell
namespace Go.Proofs.Ytljhplddgcmmoab
open Go.RowKit
set_option linter.unusedVariables false

/-- The text so far in a row of the call's own, the place and the bytes in variables of the reader's. -/
structure Reads (w6 : World) (p q : Nat) (a : Option Addr) (len cap : Nat) (w : World) (v : Value) (u : List UInt8) (k : Nat) : Prop where
  own : w.ownsRow w6.heap.size 5 1 v u.length ((asInts u).map (Value.int .u8))
  below : Below w6.heap.size w6 w
  place : Var w p 3 (.int .i64 (k : Int))
  bytes : Var w q 22 (.slice a len cap)
  hp : w6.heap.size ≤ p
  hpq : q ≠ p

variable {w6 w : World} {p q : Nat} {a : Option Addr} {len cap : Nat} {v : Value} {u : List UInt8} {k : Nat}

theorem Reads.alloc (h : Reads w6 p q a len cap w v u k) (o : Obj) : Reads w6 p q a len cap (w.alloc o) v u k :=
  ⟨h.own.alloc o, h.below.alloc h.below.size o, h.place.alloc o, h.bytes.alloc o, h.hp, h.hpq⟩

theorem Reads.moved (h : Reads w6 p q a len cap w v u k) (n : Nat) : Reads w6 p q a len cap ((w.drewN n).setCell ⟨p, 0, none⟩ (.int .i64 ((k : Int) + 1))) v u (k + 1) := by
  have h1 : (w.drewN n).ownsRow w6.heap.size 5 1 v u.length ((asInts u).map (Value.int .u8)) := h.own
  have h2 : Var (w.drewN n) p 3 (.int .i64 (k : Int)) := h.place
  have h3 : Var (w.drewN n) q 22 (.slice a len cap) := h.bytes
  have n1 : v.ownBlock ≠ some p := own_other (cs := #[.int .i64 (k : Int)]) (t := 3) (fr := (0, 0)) h1 h2 (by decide)
  refine ⟨ownsRow_setCell_other h1 (a := ⟨p, 0, none⟩) n1 _, (below_drewN h.below n).setCell h.hp _, ?_, h3.set_other _ _ h.hpq, h.hp, h.hpq⟩
  have e : ((k + 1 : Nat) : Int) = (k : Int) + 1 := by omega
  rw [e]
  exact h2.set _

theorem Reads.grown (h : Reads w6 p q a len cap w v u k) {w' : World} {v' : Value} {c : UInt8} (hown : w'.ownsRow w6.heap.size 5 1 v' (u.length + 1) ((asInts u).map (Value.int .u8) ++ [.int .u8 (c.toNat : Int)])) (hg : w.grownBy w' v.ownBlock) : Reads w6 p q a len cap w' v' (u ++ [c]) k := by
  have n1 : v.ownBlock ≠ some p := own_other (cs := #[.int .i64 (k : Int)]) (t := 3) (fr := (0, 0)) h.own h.place (by decide)
  have n2 : v.ownBlock ≠ some q := own_other (cs := #[.slice a len cap]) (t := 22) (fr := (0, 0)) h.own h.bytes (by decide)
  refine ⟨?_, h.below.grown hg h.below.size (fun k hk => (h.own.lt k hk).1), (hg.block p h.place.lt (Ne.symm n1)).trans h.place, (hg.block q h.bytes.lt (Ne.symm n2)).trans h.bytes, h.hp, h.hpq⟩
  rw [asInts_snoc, List.map_append, List.length_append]
  exact hown

/-- What the reader answers at place k, and where it stands behind it. -/
def Got (zs : List Int) (len k : Nat) (B : Int) (O : Bool) (k' : Nat) : Prop := (k < 8 * len ∧ B = (bitAt zs k : Int) ∧ O = true ∧ k' = k + 1) ∨ (k = 8 * len ∧ B = 0 ∧ O = false ∧ k' = k)

theorem next_any (zs : List Int) (h : Reads w6 p q a len cap w v u k) (hs : Seg w6 a len zs) (hl : len ≤ 1099511627776) (hk : k ≤ 8 * len) :
    Calls Try.prog 72 #[.pointer (some ⟨p, 0, none⟩), .pointer (some ⟨q, 0, none⟩)] w fun e w' =>
      ∃ (B : Int) (O : Bool) (k' : Nat), e = .returned (.tuple #[.int .i64 B, .bool O]) ∧ Got zs len k B O k' ∧ Reads w6 p q a len cap w' v u k' := by
  by_cases hlt : k < 8 * len
  · refine (next_bit p q k a len cap zs w h.place h.bytes (hs.below h.below) hl hlt).mono ?_
    rintro e w' ⟨rfl, n, rfl⟩
    exact ⟨_, _, _, rfl, .inl ⟨hlt, rfl, rfl, rfl⟩, h.moved n⟩
  · have e : k = 8 * len := by omega
    have hp : Var w p 3 (.int .i64 ((8 * len : Nat) : Int)) := by rw [← e]; exact h.place
    refine (next_end p q a len cap w hp h.bytes hl).mono ?_
    rintro e' w' ⟨rfl, rfl⟩
    exact ⟨_, _, _, rfl, .inr ⟨e, rfl, rfl, rfl⟩, h⟩

/-- The number in a variable, and 1 for what is true: what is left to read. -/
def numIn (b : Nat) (W : World) : Nat := match W.cell? ⟨b, 0, none⟩ with | some (.int _ x) => x.toNat | _ => 0
def okIn : Value → Nat
  | .bool true => 1
  | _ => 0
theorem numIn_eq {W : World} {b : Nat} {t : TypeId} {x : Int} (h : Var W b t (.int .i64 x)) : numIn b W = x.toNat := by simp [numIn, h.cell]

theorem got_less (zs : List Int) (w' : World) (v' : Value) (u' : List UInt8) (B : Int) (O : Bool) (k' : Nat) (h : Reads w6 p q a len cap w v u (k + 1)) (hg : Got zs len (k + 1) B O k') (h' : Reads w6 p q a len cap w' v' u' k') (hk : k < 8 * len) :
    2 * (8 * len - numIn p w') + okIn (.bool O) < 2 * (8 * len - numIn p w) + okIn (.bool true) := by
  rw [numIn_eq h.place, numIn_eq h'.place, Int.toNat_natCast, Int.toNat_natCast]
  rcases hg with ⟨h1, _, rfl, rfl⟩ | ⟨h1, _, rfl, rfl⟩
  · simp only [okIn]
    omega
  · simp only [okIn]
    omega

end Go.Proofs.Ytljhplddgcmmoab
