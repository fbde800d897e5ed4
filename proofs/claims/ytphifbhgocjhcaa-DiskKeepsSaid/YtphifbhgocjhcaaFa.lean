/- Is a disk made; has it a sector; how many. -/
import Derived.Test.YtphifbhgocjhcaaDk
namespace Go.Proofs.Ytphifbhgocjhcaa
set_option linter.unusedSimpArgs false
set_option linter.unusedVariables false
open Go.RowKit Go.Maps

/-- The pointer to a disk. -/
abbrev ptr (p : Nat) : Value := .pointer (some ⟨p, 0, none⟩)

section
variable {w : World} {p s m : Nat} {B : List UInt8} {C : Ca}

theorem made_any (h : Dk w p s m B C) : Calls Try.prog 31 #[ptr p] w fun e w' => e = .returned (.bool true) ∧ w' = w := by
  obtain ⟨cap, hc, hc2, c0, c1⟩ := h.c0
  have h0 := h.h0
  have h1 := h.h1
  clear h
  go_enter Try.func31, Try.ntmps31
  go_wp2
  all_goals (go_ret; simp; try omega)

theorem made_nil (w : World) : Calls Try.prog 31 #[.pointer none] w fun e w' => e = .returned (.bool false) ∧ w' = w := by
  go_enter Try.func31, Try.ntmps31
  go_wp2
  go_ret
  exact ⟨rfl, rfl⟩

theorem has_any (h : Dk w p s m B C) (at_ : Int) : Calls Try.prog 32 #[ptr p, .int .i64 at_] w fun e w' => e = .returned (.bool (decide (0 ≤ at_ ∧ at_ < C.length))) ∧ w' = w := by
  obtain ⟨cap, hc, hc2, c0, c1⟩ := h.c0
  have h0 := h.h0
  have h1 := h.h1
  clear h
  go_enter Try.func32, Try.ntmps32
  by_cases ha : 0 ≤ at_
  · by_cases hb : at_ < (C.length : Int)
    · go_wp2
      go_ret
      simp [ha, hb]
    · go_wp2
      go_ret
      simp [ha, hb]
  · go_wp2
    go_ret
    simp [ha]
    omega

theorem size_any (h : Dk w p s m B C) : Calls Try.prog 15 #[ptr p] w fun e w' => e = .returned (.int .i64 (C.length : Int)) ∧ w' = w := by
  have HM := Lib.hid (made_any h)
  obtain ⟨cap, hc, hc2, c0, c1⟩ := h.c0
  clear h
  go_enter Try.func15, Try.ntmps15
  go_wp2_with (go_at_call 31; refine HM.out.mono ?_; rintro e w' ⟨rfl, rfl⟩)
  go_ret
  exact ⟨rfl, rfl⟩

theorem size_nil (w : World) : Calls Try.prog 15 #[.pointer none] w fun e w' => e = .returned (.int .i64 0) ∧ w' = w := by
  go_enter Try.func15, Try.ntmps15
  go_wp2_with (go_at_call 31; refine (made_nil _).mono ?_; rintro e w' ⟨rfl, rfl⟩)
  go_ret
  exact ⟨rfl, rfl⟩
end
end Go.Proofs.Ytphifbhgocjhcaa
