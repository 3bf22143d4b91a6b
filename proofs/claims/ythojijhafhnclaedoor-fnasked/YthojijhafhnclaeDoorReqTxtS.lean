/- What the specification's l1Text answers: the digits of a number. -/
import Derived.Test.YthojijhafhnclaeDoorOwn
import Derived.WalkKit
import Derived.WalkSpells
import Derived.WalkLawsBesides
import Derived.Deep.QuietTactic
import Derived.Deep.RegionWith
import Derived.Deep.DrawnRows
import Derived.Lib.ItoaMem
namespace Go.Proofs.YthojijhafhnclaeDoor
open Go.RowKit
set_option linter.unusedVariables false
attribute [local go_sem ↓] Go.wp_at_zero Go.wp_at_succ

/-- 'string([]byte{c})'. -/
theorem conv_one (c : Nat) (hc : c < 256) (W : World) (g : Nat) (h : W.cell? ⟨g, 0, none⟩ = some (.int .u8 (c : Int))) :
    (convert 22 9 (.slice (some ⟨g, 0, none⟩) 1 1)).run Tryd.prog W = .ok (.string ⟨#[UInt8.ofNat c]⟩) W := by
  refine run_convert_bytes_back W 22 9 5 ⟨g, 0, none⟩ 1 [UInt8.ofNat c] Tryd.underlying22 Tryd.underlying5 Tryd.underlying9 (fun j hj => ?_)
  obtain rfl : j = 0 := by simpa using hj
  have e : (UInt8.ofNat c).toNat = c := by simp; omega
  simpa [Addr.add, Nat.mod_eq_of_lt hc] using h

theorem bcell {W w1 : World} (hb : Below W.heap.size W w1) : ∀ b o, b < W.heap.size → w1.cell? ⟨b, o, none⟩ = W.cell? ⟨b, o, none⟩ := fun b o h => hb.cell (p := ⟨b, o, none⟩) h

theorem way_one {w w' : World} (hb : Below w.drew.heap.size w.drew w') (o : Obj) : Below w.heap.size w (w'.alloc o) :=
  (Below.trans ((Below.refl _ _).drew) hb).alloc hb.size o

theorem way_two {w w' : World} {o : Obj} (hb : Below (w.alloc o).drew.heap.size (w.alloc o).drew w') : Below w.heap.size w w' :=
  (((Below.refl _ _).alloc (Nat.le_refl _) o).drew).trans (hb.mono (by simp))

set_option maxHeartbeats 400000 in
theorem l1Text_small (u : Nat) (w : World) (h : u < 10) :
    Calls Tryd.prog 49 #[.int .i64 u] w fun e w' => e = .returned (.string ⟨(Lib.decDigits u).toArray⟩) ∧ Below w.heap.size w w' := by
  have hu : (u : Int) < 10 := by omega
  rw [Lib.decDigits_one h]
  have hcv0 : ∀ (W : World) (g : Nat), W.cell? ⟨g, 0, none⟩ = some (.int .u8 (48 + (u : Int))) → (convert 22 9 (.slice (some ⟨g, 0, none⟩) 1 1)).run Tryd.prog W = .ok (.string ⟨#[UInt8.ofNat (48 + u)]⟩) W := fun W g hW => conv_one (48 + u) (by omega) W g (by simpa using hW)
  show Calls Tryd.prog 49 #[.int .i64 u] w fun e w' => e = .returned (.string ⟨#[UInt8.ofNat (48 + u)]⟩) ∧ Below w.heap.size w w'
  generalize (⟨#[UInt8.ofNat (48 + u)]⟩ : ByteArray) = T at *
  go_enter Tryd.func49, Tryd.ntmps49
  go_wp2_with fail
  go_ret
  exact ⟨rfl, (Below.refl _ _).alloc (Nat.le_refl _) _⟩

set_option maxHeartbeats 400000 in
theorem l1Text_big (u : Nat) (w : World) (h : ¬ u < 10) (hm : u ≤ 4294967295) (S T : ByteArray) (hS : S.size ≤ 100) (hT : T.size ≤ 1)
    (hcv : ∀ (W : World) (g : Nat), W.cell? ⟨g, 0, none⟩ = some (.int .u8 (48 + (u : Int) % 10)) → (convert 22 9 (.slice (some ⟨g, 0, none⟩) 1 1)).run Tryd.prog W = .ok (.string T) W)
    (ih : ∀ w, Calls Tryd.prog 49 #[.int .i64 ((u : Int) / 10)] w fun e w' => e = .returned (.string S) ∧ Below w.heap.size w w') :
    Calls Tryd.prog 49 #[.int .i64 u] w fun e w' => e = .returned (.string (S ++ T)) ∧ Below w.heap.size w w' := by
  have hu : ¬ (u : Int) < 10 := by omega
  have hu2 : (u : Int) ≤ 4294967295 := by omega
  have IH : Hid _ := ih
  clear ih
  have hw1 : IntKind.i64.wrap ((u : Int) / 10) = (u : Int) / 10 := by rw [IntKind.wrap_i64]; omega
  have hw2 : (u : Int).tmod 10 = (u : Int) % 10 := Int.tmod_eq_emod_of_nonneg (by omega)
  have hw3 : IntKind.i64.wrap (48 + (u : Int) % 10) = 48 + (u : Int) % 10 := by rw [IntKind.wrap_i64]; omega
  have hw4 : IntKind.u8.wrap (48 + (u : Int) % 10) = 48 + (u : Int) % 10 := by rw [IntKind.wrap_u8']; omega
  go_enter Tryd.func49, Tryd.ntmps49
  go_wp2_with fail
  go_region_with (go_at_call 49; refine (IH.out _).mono ?_; rintro e w' ⟨rfl, hb⟩; have hbc := bcell hb)
  all_goals
    go_wp2_with fail
    go_ret
    first
      | exact ⟨rfl, way_one hb _⟩
      | exact ⟨rfl, way_two hb⟩

theorem decDigits_len (u : Nat) : (Lib.decDigits u).length ≤ u + 1 := by
  induction u using Nat.strongRecOn with
  | ind u ih =>
    by_cases h : u < 10
    · rw [Lib.decDigits_one h]; simp
    · rw [Lib.decDigits, dif_neg h]
      have := ih (u / 10) (by omega)
      simp only [List.length_append, List.length_cons, List.length_nil]
      omega

theorem decDigits_small (n : Nat) : ∀ u, u < 10 ^ (n + 1) → (Lib.decDigits u).length ≤ n + 1 := by
  induction n with
  | zero => intro u hu; rw [Lib.decDigits_one (by simpa using hu)]; simp
  | succ n ih =>
    intro u hu
    by_cases h : u < 10
    · rw [Lib.decDigits_one h]; simp
    · rw [Lib.decDigits, dif_neg h]
      have h2 : u / 10 < 10 ^ (n + 1) := by
        rw [Nat.pow_succ] at hu
        omega
      have := ih (u / 10) h2
      simp only [List.length_append, List.length_cons, List.length_nil]
      omega

theorem l1Text_any (u : Nat) : ∀ (w : World), u ≤ 4294967295 →
    Calls Tryd.prog 49 #[.int .i64 u] w fun e w' => e = .returned (.string ⟨(Lib.decDigits u).toArray⟩) ∧ Below w.heap.size w w' := by
  induction u using Nat.strongRecOn with
  | ind u ih =>
    intro w hm
    by_cases h : u < 10
    · exact l1Text_small u w h
    · have hl := decDigits_small 9 (u / 10) (by omega)
      have e : (⟨(Lib.decDigits u).toArray⟩ : ByteArray) = ⟨(Lib.decDigits (u / 10)).toArray⟩ ++ ⟨#[UInt8.ofNat (48 + u % 10)]⟩ := by
        rw [Lib.decDigits, dif_neg h]
        apply ByteArray.ext
        simp
      rw [e]
      refine l1Text_big u w h hm _ _ ?_ ?_ (fun W g hW => conv_one (48 + u % 10) (by omega) W g (by simpa using hW)) (fun w => ?_)
      · show (Lib.decDigits (u / 10)).toArray.size ≤ 100
        simp
        omega
      · show (#[UInt8.ofNat (48 + u % 10)] : Array UInt8).size ≤ 1
        simp
      · exact ih (u / 10) (by omega) w (by omega)

end Go.Proofs.YthojijhafhnclaeDoor
