/- The examples of the chapter: lives. -/
import Derived.Test.YtilcgnghhfiflaaDig
namespace Go.Proofs.Ytilcgnghhfiflaa
open Go.RowKit

theorem num300 : numB 300 = [129, 44] := by decide +kernel
theorem num128 : numB 128 = [128, 128] := by decide +kernel
theorem ex1 : rdNum [128, 127] 0 = (0, [128, 127], 4) := by decide +kernel
theorem ex2 : rdBlk [2, 97] 0 = ([], [2, 97], 5) := by decide +kernel

set_option maxHeartbeats 400000 in
theorem lives_any (w : World) : Calls Try.prog 16 #[] w fun x w' => x = .returned (.bool true) ∧ Below w.heap.size w w' := by
  go_enter Try.func16, Try.ntmps16
  go_wp2_with fail
  refine (Read_any _ (Rd.litN w _ [128, 127] 2 rfl rfl (by decide)) (by decide)).mono ?_; rintro x w1 ⟨g1, rfl, hg1, hR1, hb1⟩
  go_wp2_with fail
  refine (Read_any _ (Rd.litN w1 _ [2, 97] 2 rfl rfl (by decide)) (by decide)).mono ?_; rintro x w2 ⟨g2, rfl, hg2, hR2, hb2⟩
  go_wp2_with fail
  refine (Number_any _ _ (Rd.nil _ _ _ _) (by decide) (by decide) (by decide)).mono ?_; rintro x w3 ⟨v3, rfl, ho3, hb3⟩
  rw [show (300 : Int).toNat = 300 from rfl, num300] at ho3
  rw [List.nil_append] at ho3
  obtain ⟨A3, c3, rfl, hr3⟩ := ho3.rdN (n := 2) rfl
  have hs3 := run_str hr3
  go_wp2_with fail
  refine (Number_any _ _ (Rd.nil _ _ _ _) (by decide) (by decide) (by decide)).mono ?_; rintro x w4 ⟨v4, rfl, ho4, hb4⟩
  rw [show (128 : Int).toNat = 128 from rfl, num128, List.nil_append] at ho4
  obtain ⟨A4, c4, rfl, hr4⟩ := ho4.rdN (n := 2) rfl
  have hs4 := run_str hr4
  go_wp2_with fail
  have hR1b : Rdr w4 g1 [128, 127] 0 := (((hR1.below ((Below.refl _ _).alloc (Nat.le_refl _) _)).below hb2).below hb3).below hb4
  refine (RNumber_any hR1b (by decide)).mono ?_; rintro x w5 ⟨rfl, hR5, hO5⟩
  rw [ex1] at hR5 ⊢
  simp only at hR5 ⊢
  go_wp2_with fail
  refine (Err_any hR5).mono ?_; rintro x w6 ⟨rfl, rfl⟩
  go_wp2_with fail
  have hsz1 := hR1.lt
  have hne : g2 ≠ g1 := by have s3 := hg2; simp only [World.size_alloc] at s3; omega
  have hR2b : Rdr w5 g2 [2, 97] 0 := ((hR2.below hb3).below hb4).beside hR1b hO5 hne
  refine (RBlock_any hR2b (by decide)).mono ?_; rintro x w6 ⟨v6, rfl, ho6, hR6, hO6⟩
  rw [ex2] at ho6 hR6
  obtain ⟨A6, c6, rfl, hr6⟩ := ho6.rdN (n := 0) rfl
  go_wp2_with fail
  refine (Err_any hR6).mono ?_; rintro x w7 ⟨rfl, rfl⟩
  go_wp2
  go_ret
  refine ⟨rfl, ?_⟩
  have k1 := bl_call (bl_alloc (bl0 w) _) hb1
  have k2 := bl_call (bl_alloc k1 _) hb2
  have k4 := bl_call (bl_call k2 hb3) hb4
  have s1 := k1.size
  have s2 := hg1
  have s3 := hg2
  simp only [World.size_alloc] at s2 s3
  exact bl_only (bl_only k4 hO5 (by omega)) hO6 (by omega)
end Go.Proofs.Ytilcgnghhfiflaa
