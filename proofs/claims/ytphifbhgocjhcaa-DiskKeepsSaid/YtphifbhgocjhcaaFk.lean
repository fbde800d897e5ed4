/- Flush and Crash. -/
import Derived.Test.YtphifbhgocjhcaaFi
import Derived.Test.YtphifbhgocjhcaaFj
namespace Go.Proofs.Ytphifbhgocjhcaa
set_option linter.unusedSimpArgs false
set_option linter.unusedVariables false
open Go.RowKit Go.Maps

section
variable {w : World} {p s m : Nat} {B : List UInt8} {C : Ca}
theorem flush_nil (w : World) : Calls Try.prog 17 #[.pointer none] w fun e w' => e = .returned (.int .i64 1) ∧ w' = w := by
  go_enter Try.func17, Try.ntmps17
  go_wp2_with (go_at_call 31; refine (made_nil _).mono ?_; rintro e w' ⟨rfl, rfl⟩)
  go_ret
  exact ⟨rfl, rfl⟩
theorem crash_nil (w : World) (v : Value) : Calls Try.prog 23 #[.pointer none, v] w fun e w' => e = .returned (.int .i64 1) ∧ w' = w := by
  go_enter Try.func23, Try.ntmps23
  go_wp2_with (go_at_call 31; refine (made_nil _).mono ?_; rintro e w' ⟨rfl, rfl⟩)
  go_ret
  exact ⟨rfl, rfl⟩
theorem image_nil (w : World) : Calls Try.prog 29 #[.pointer none] w fun e w' => e = .returned (.slice none 0 0) ∧ w' = w := by
  go_enter Try.func29, Try.ntmps29
  go_wp2_with (go_at_call 31; refine (made_nil _).mono ?_; rintro e w' ⟨rfl, rfl⟩)
  go_ret
  exact ⟨rfl, rfl⟩
theorem clone_nil (w : World) : Calls Try.prog 16 #[.pointer none] w fun e w' => e = .returned (.pointer none) ∧ w' = w := by
  go_enter Try.func16, Try.ntmps16
  go_wp2_with (go_at_call 31; refine (made_nil _).mono ?_; rintro e w' ⟨rfl, rfl⟩)
  go_ret
  exact ⟨rfl, rfl⟩

theorem Kp.below {base : Nat} {may : Nat → Prop} {w w' : World} (h : Kp may w w') (hb : base ≤ w.heap.size) (hm : ∀ k, may k → base ≤ k) : Below base w w' :=
  ⟨h.os, h.tape, h.output, h.size, fun i hi => h.block i (by omega) (fun e => by have := hm i e; omega)⟩
theorem Kp.old {may : Nat → Prop} {w w' : World} (h : Below w.heap.size w w') : Kp may w w' := Kp.of_old h

theorem flush_any (h : Dk w p s m B C) : Calls Try.prog 17 #[ptr p] w fun e w' => e = .returned (.int .i64 0) ∧ Dk w' p s m (settle C (idx 0 C) B) (noC C.length) ∧ Kp (fun k => k = s ∨ k = m) w w' := by
  have HM := Lib.hid (made_any h)
  have HD := Lib.hid h
  have HC := Lib.hid (cached_any h)
  have HL : Hid (∀ i ∈ idx 0 C, i < C.length) := Lib.hid (fun i hi => by have := idx_lt C 0 i hi; omega)
  have HN : Hid ((idx 0 C).length ≤ 16384) := Lib.hid (by have := idx_len C 0; have := h.h1; omega)
  have HS := Lib.hid h.slt
  clear h
  go_enter Try.func17, Try.ntmps17
  go_wp2_with (first | (go_at_call 31; refine HM.out.mono ?_; rintro e w' ⟨rfl, rfl⟩) | (go_at_call 13; refine HC.out.mono ?_; rintro e w2 ⟨A, c, rfl, hn2, hb2⟩; have HN2 := Lib.hid hn2; have HB2 := Lib.hid hb2; clear hn2 hb2) | (go_at_call 37; refine (settle_any (HD.out.old HB2.out) HN2.out HL.out HS.out HN.out).mono ?_; rintro e w3 ⟨rfl, hd3, hk3⟩; have HD3 := Lib.hid hd3; have HK3 := Lib.hid hk3; clear hd3 hk3))
  go_ret
  exact ⟨rfl, HD3.out, (Kp.old HB2.out).trans HK3.out⟩
theorem crash_any (h : Dk w p s m B C) {top : Nat} {A : Option Addr} {n c : Nat} {k : List Bool} (hk : Bi w top A n c k) (ht : top ≤ w.heap.size) (hn : n ≤ 4294967296) :
    Calls Try.prog 23 #[ptr p, .slice A n c] w fun e w' => e = .returned (.int .i64 0) ∧ Dk w' p s m (settle C (chosen (idx 0 C) k) B) (noC C.length) ∧ Kp (fun k => k = s ∨ k = m) w w' := by
  have HM := Lib.hid (made_any h)
  have HD := Lib.hid h
  have HC := Lib.hid (cached_any h)
  have HL : Hid (∀ i ∈ chosen (idx 0 C) k, i < C.length) := Lib.hid (fun i hi => by have := idx_lt C 0 i (chosen_sub _ _ i hi); omega)
  have HN : Hid ((idx 0 C).length ≤ 16384) := Lib.hid (by have := idx_len C 0; have := h.h1; omega)
  have HN' : Hid ((chosen (idx 0 C) k).length ≤ 16384) := Lib.hid (by have := idx_len C 0; have := chosen_len (idx 0 C) k; have := h.h1; omega)
  have HS := Lib.hid h.slt
  have HK := Lib.hid hk
  have HT := Lib.hid ht
  have HZ := Lib.hid hn
  clear h hk ht hn
  go_enter Try.func23, Try.ntmps23
  go_wp2_with (first | (go_at_call 31; refine HM.out.mono ?_; rintro e w' ⟨rfl, rfl⟩) | (go_at_call 13; refine HC.out.mono ?_; rintro e w2 ⟨A', c', rfl, hn2, hb2⟩; have HN2 := Lib.hid hn2; have HB2 := Lib.hid hb2; clear hn2 hb2) | (go_at_call 40; refine (chosen_any HN2.out (HK.out.below (HB2.out.mono HT.out)) (Nat.le_trans HT.out HB2.out.size) HN.out HZ.out).mono ?_; rintro e w3 ⟨v, rfl, ho3, hb3⟩; obtain ⟨A3, c3, rfl, hn3⟩ := ho3.ni; have HN3 := Lib.hid hn3; have HB3 := Lib.hid hb3; clear ho3 hn3 hb3) | (go_at_call 37; refine (settle_any (HD.out.old (bl_call HB2.out HB3.out)) HN3.out HL.out (Nat.lt_of_lt_of_le HS.out HB2.out.size) HN'.out).mono ?_; rintro e w4 ⟨rfl, hd4, hk4⟩; have HD4 := Lib.hid hd4; have HK4 := Lib.hid hk4; clear hd4 hk4))
  go_ret
  exact ⟨rfl, HD4.out, (Kp.old (bl_call HB2.out HB3.out)).trans HK4.out⟩
end
end Go.Proofs.Ytphifbhgocjhcaa
