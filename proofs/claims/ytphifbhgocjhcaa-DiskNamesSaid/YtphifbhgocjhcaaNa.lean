/- DiskNames: the chapter's examples come out as it tells. -/
import Derived.Test.YtphifbhgocjhcaaFo
namespace Go.Proofs.Ytphifbhgocjhcaa
set_option linter.unusedSimpArgs false
set_option linter.unusedVariables false
open Go.RowKit Go.Maps

theorem undrewN {w W : World} (h : Below w.drew.heap.size w.drew W) : Below w.heap.size w W := ⟨h.os, h.tape, h.output, h.size, h.block⟩
theorem noC_one : (noC 1).length = 1 := rfl
theorem look_one (L : List UInt8) (h : L.length = 256) : look L (noC 1) 0 = L := by
  show sect L 0 = L
  unfold sect
  rw [Nat.mul_zero, List.drop_zero, List.take_of_length_le (by omega)]
set_option maxRecDepth 100000 in
set_option maxHeartbeats 1000000 in
theorem DiskNames_walk (w : World) : Calls Try.prog 3 #[] w fun e w' => e = .returned (.bool true) ∧ Below w.heap.size w w' := by
  obtain ⟨L7, hL⟩ : ∃ L, L = List.replicate 256 (7 : UInt8) := ⟨_, rfl⟩
  have hL7 : L7.length = 256 := by rw [hL, List.length_replicate]
  have HRow : Hid (∀ W : World, Calls Try.prog 10 #[.int .u8 7] W fun e w' => ∃ g, e = .returned (.slice (some ⟨g, 0, none⟩) 256 256) ∧ Rd w' w'.heap.size (some ⟨g, 0, none⟩) 256 256 L7 ∧ Below W.heap.size W w') := Lib.hid (fun W => (row_any W 7).mono fun e w' ⟨h1, h2, h3⟩ => ⟨_, h1, by rw [hL]; exact rd_row h2, h3⟩)
  have HL7 := Lib.hid hL7
  clear hL hL7
  have hmk : (Instr.makeSlice 27 (.int .i64 300) (.int .i64 300)).run Try.prog w = .ok (.slice (some ⟨w.heap.size, 0, none⟩) 300 300) (w.alloc (.cells (cs8 (List.replicate 300 0)).toArray 5)) := run_make8 w 300 (by omega)
  have hX : ∃ X, X = (.cells (cs8 (List.replicate 300 0)).toArray 5 : Obj) := ⟨_, rfl⟩
  obtain ⟨X, hX⟩ := hX
  rw [← hX] at hmk
  clear hX
  go_enter Try.func3, Try.ntmps3
  go_wp2_with fail
  refine (new_bad _ 0 (by omega)).mono ?_
  rintro e w1 ⟨rfl, rfl⟩
  go_wp2_with fail
  refine (of_bad _ _ 300 300 (by omega)).mono ?_
  rintro e w2 ⟨rfl, hw2⟩
  have HB := Lib.hid (show Below w1.heap.size w1 w2 by rw [hw2]; exact bl_alloc (bl0 w1) _)
  clear hw2 hmk
  go_wp2_with fail
  refine (of_nil _).mono ?_
  rintro e w2 ⟨rfl, rfl⟩
  go_wp2_with fail
  refine (HRow.out _).mono ?_
  rintro e w3 ⟨g, rfl, hr, hb⟩
  have HB := Lib.hid (bl_call HB.out hb)
  have HR := Lib.hid hr
  clear hr hb
  go_wp2_with fail
  refine (of_ok _ 1 HR.out (Nat.le_refl _) (by omega) (by omega)).mono ?_
  rintro e w4 ⟨p, s, m, rfl, hd, hh, hb⟩
  have hs3 := HB.out.size
  have HD := Lib.hid hd
  have HH := Lib.hid (show w1.heap.size ≤ m by unfold Hi at hh; omega)
  have HB := Lib.hid (bl_call HB.out hb)
  clear hd hh hb hs3
  go_wp2_with fail
  refine (read_bad HD.out 1 (by rw [noC_one]; omega)).mono ?_
  rintro e w4 ⟨rfl, rfl⟩
  go_wp2_with fail
  refine (read_ok HD.out 0 (by rw [noC_one]; omega)).mono ?_
  rintro e w5 ⟨rfl, hr, hb⟩
  rw [look_one L7 HL7.out] at hr
  have HX := Lib.hid hr
  have HM4 := Lib.hid (And.intro HD.out.mlt hb.size)
  have HD := Lib.hid (HD.out.old hb)
  have HB := Lib.hid (bl_call HB.out hb)
  clear hr hb
  have HX4 := Lib.hid (show w4.heap.size < w5.heap.size by obtain ⟨ad, e, h1, _⟩ := HX.out.2.2 (by omega); injection e with e; subst e; exact h1)
  go_wp2_with fail
  refine (write_bad HD.out 0 (A := none) (n := 0) (c := 0) (by omega)).mono ?_
  rintro e w5 ⟨rfl, rfl⟩
  go_wp2_with fail
  refine (row_any _ 5).mono ?_
  rintro e w6 ⟨rfl, hr, hb⟩
  have HR := Lib.hid (rd_row hr)
  have HX := Lib.hid ((HX.out.below hb).more hb.size)
  have HS6 := Lib.hid (And.intro HX4.out hb.size)
  have HD := Lib.hid (HD.out.old hb)
  have HB := Lib.hid (bl_call HB.out hb)
  clear hr hb
  go_wp2_with fail
  refine (write_ok HD.out 0 (by decide) HR.out).mono ?_
  rintro e w7 ⟨rfl, hd, hk⟩
  have HX := Lib.hid (HX.out.kpN hk (by have := HS6.out; omega) (by have := HM4.out; omega))
  have HXt := Lib.hid hk.size
  have HD : Hid (Dk w7 p s m L7 [some (List.replicate 256 5)]) := Lib.hid hd
  have HB := Lib.hid (HB.out.trans (hk.below HB.out.size (fun k e => by have := HH.out; omega)))
  clear hd hk
  go_wp2_with fail
  refine (cached_any HD.out).mono ?_
  rintro e w8 ⟨A8, c8, rfl, hn, hb⟩
  have HX := Lib.hid (((HX.out.more HXt.out).below hb).more hb.size)
  have HD := Lib.hid (HD.out.old hb)
  have HB := Lib.hid (bl_call HB.out hb)
  clear hn hb
  rw [show (idx 0 [some (List.replicate 256 (5 : UInt8))]).length = 1 from rfl]
  go_wp2_with fail
  have hR := Old.stays
  refine reg_start Old follows_mixed ?_
-- region 13 of f3: 55 operations, draws: true
  -- STEP 0: Op.call { callee := Callee.value (Operand.func 14), args := #[], argTypes := #[] }
  refine reg_step hR 0 (by kernel_rfl) rfl fun K hK => ?_
  try simp only [Act.put, List.getElem_toArray, List.getElem_cons_succ, List.getElem_cons_zero, List.setIfInBounds_toArray, List.set_cons_zero, List.set_cons_succ]
  go_simp
  refine (lives_any _).mono ?_; rintro x u1 ⟨rfl, hu1⟩
  have HU1 := Lib.hid hu1; have HV1 := Lib.hid (undrewN hu1); clear hu1
  refine hK.out _ _ ?_ ?_
  · exact HU1.out
  clear hK K
  try simp only [Act.put, List.getElem_toArray, List.getElem_cons_succ, List.getElem_cons_zero, List.setIfInBounds_toArray, List.set_cons_zero, List.set_cons_succ]
  refine reg_take (v := ?_) hR 1 rfl (by kernel_rfl) (by kernel_rfl) (by kernel_rfl) (fun _ _ _ h => h) (by rfl) ?_ ?_
  rotate_left
  · intro W hW; go_simp; try with_reducible rfl
  try simp only [Act.put, List.getElem_toArray, List.getElem_cons_succ, List.getElem_cons_zero, List.setIfInBounds_toArray, List.set_cons_zero, List.set_cons_succ]
  refine reg_take (v := ?_) hR 2 rfl (by kernel_rfl) (by kernel_rfl) (by kernel_rfl) (fun _ _ _ h => h) (by rfl) ?_ ?_
  rotate_left
  · intro W hW; go_simp; try with_reducible rfl
  try simp only [Act.put, List.getElem_toArray, List.getElem_cons_succ, List.getElem_cons_zero, List.setIfInBounds_toArray, List.set_cons_zero, List.set_cons_succ]
  refine reg_take (v := ?_) hR 3 rfl (by kernel_rfl) (by kernel_rfl) (by kernel_rfl) (fun _ _ _ h => h) (by rfl) ?_ ?_
  rotate_left
  · intro W hW; go_simp; try with_reducible rfl
  try simp only [Act.put, List.getElem_toArray, List.getElem_cons_succ, List.getElem_cons_zero, List.setIfInBounds_toArray, List.set_cons_zero, List.set_cons_succ]
  refine reg_take (v := ?_) hR 4 rfl (by kernel_rfl) (by kernel_rfl) (by kernel_rfl) (fun _ _ _ h => h) (by rfl) ?_ ?_
  rotate_left
  · intro W hW; go_simp; try with_reducible rfl
  try simp only [Act.put, List.getElem_toArray, List.getElem_cons_succ, List.getElem_cons_zero, List.setIfInBounds_toArray, List.set_cons_zero, List.set_cons_succ]
  refine reg_take (v := ?_) hR 5 rfl (by kernel_rfl) (by kernel_rfl) (by kernel_rfl) (fun _ _ _ h => h) (by rfl) ?_ ?_
  rotate_left
  · intro W hW; go_simp; try with_reducible rfl
  try simp only [Act.put, List.getElem_toArray, List.getElem_cons_succ, List.getElem_cons_zero, List.setIfInBounds_toArray, List.set_cons_zero, List.set_cons_succ]
  refine reg_take (v := ?_) hR 6 rfl (by kernel_rfl) (by kernel_rfl) (by kernel_rfl) (fun _ _ _ h => h) (by rfl) ?_ ?_
  rotate_left
  · intro W hW; go_simp; try with_reducible rfl
  try simp only [Act.put, List.getElem_toArray, List.getElem_cons_succ, List.getElem_cons_zero, List.setIfInBounds_toArray, List.set_cons_zero, List.set_cons_succ]
  refine reg_take (v := ?_) hR 7 rfl (by kernel_rfl) (by kernel_rfl) (by kernel_rfl) (fun _ _ _ h => h) (by rfl) ?_ ?_
  rotate_left
  · intro W hW; go_simp; try with_reducible rfl
  try simp only [Act.put, List.getElem_toArray, List.getElem_cons_succ, List.getElem_cons_zero, List.setIfInBounds_toArray, List.set_cons_zero, List.set_cons_succ]
  refine reg_take (v := ?_) hR 8 rfl (by kernel_rfl) (by kernel_rfl) (by kernel_rfl) (fun _ _ _ h => h) (by rfl) ?_ ?_
  rotate_left
  · intro W hW; go_simp; try with_reducible rfl
  try simp only [Act.put, List.getElem_toArray, List.getElem_cons_succ, List.getElem_cons_zero, List.setIfInBounds_toArray, List.set_cons_zero, List.set_cons_succ]
  refine reg_take (v := ?_) hR 9 rfl (by kernel_rfl) (by kernel_rfl) (by kernel_rfl) (fun _ _ _ h => h) (by rfl) ?_ ?_
  rotate_left
  · intro W hW; go_simp; try with_reducible rfl
  try simp only [Act.put, List.getElem_toArray, List.getElem_cons_succ, List.getElem_cons_zero, List.setIfInBounds_toArray, List.set_cons_zero, List.set_cons_succ]
  refine reg_take (v := ?_) hR 10 rfl (by kernel_rfl) (by kernel_rfl) (by kernel_rfl) (fun _ _ _ h => h) (by rfl) ?_ ?_
  rotate_left
  · intro W hW; go_simp; try with_reducible rfl
  try simp only [Act.put, List.getElem_toArray, List.getElem_cons_succ, List.getElem_cons_zero, List.setIfInBounds_toArray, List.set_cons_zero, List.set_cons_succ]
  refine reg_take (v := ?_) hR 11 rfl (by kernel_rfl) (by kernel_rfl) (by kernel_rfl) (fun _ _ _ h => h) (by rfl) ?_ ?_
  rotate_left
  · intro W hW; go_simp; try with_reducible rfl
  try simp only [Act.put, List.getElem_toArray, List.getElem_cons_succ, List.getElem_cons_zero, List.setIfInBounds_toArray, List.set_cons_zero, List.set_cons_succ]
  refine reg_take (v := ?_) hR 12 rfl (by kernel_rfl) (by kernel_rfl) (by kernel_rfl) (fun _ _ _ h => h) (by rfl) ?_ ?_
  rotate_left
  · intro W hW; go_simp; try with_reducible rfl
  try simp only [Act.put, List.getElem_toArray, List.getElem_cons_succ, List.getElem_cons_zero, List.setIfInBounds_toArray, List.set_cons_zero, List.set_cons_succ]
  refine reg_take (v := ?_) hR 13 rfl (by kernel_rfl) (by kernel_rfl) (by kernel_rfl) (fun _ _ _ h => h) (by rfl) ?_ ?_
  rotate_left
  · intro W hW; go_simp; try with_reducible rfl
  try simp only [Act.put, List.getElem_toArray, List.getElem_cons_succ, List.getElem_cons_zero, List.setIfInBounds_toArray, List.set_cons_zero, List.set_cons_succ]
  refine reg_take (v := ?_) hR 14 rfl (by kernel_rfl) (by kernel_rfl) (by kernel_rfl) (fun _ _ _ h => h) (by rfl) ?_ ?_
  rotate_left
  · intro W hW; go_simp; try with_reducible rfl
  try simp only [Act.put, List.getElem_toArray, List.getElem_cons_succ, List.getElem_cons_zero, List.setIfInBounds_toArray, List.set_cons_zero, List.set_cons_succ]
  refine reg_take (v := ?_) hR 15 rfl (by kernel_rfl) (by kernel_rfl) (by kernel_rfl) (fun _ _ _ h => h) (by rfl) ?_ ?_
  rotate_left
  · intro W hW; go_simp; try with_reducible rfl
  try simp only [Act.put, List.getElem_toArray, List.getElem_cons_succ, List.getElem_cons_zero, List.setIfInBounds_toArray, List.set_cons_zero, List.set_cons_succ]
  refine reg_take (v := ?_) hR 16 rfl (by kernel_rfl) (by kernel_rfl) (by kernel_rfl) (fun _ _ _ h => h) (by rfl) ?_ ?_
  rotate_left
  · intro W hW; go_simp; try with_reducible rfl
  try simp only [Act.put, List.getElem_toArray, List.getElem_cons_succ, List.getElem_cons_zero, List.setIfInBounds_toArray, List.set_cons_zero, List.set_cons_succ]
  refine reg_take (v := ?_) hR 17 rfl (by kernel_rfl) (by kernel_rfl) (by kernel_rfl) (fun _ _ _ h => h) (by rfl) ?_ ?_
  rotate_left
  · intro W hW; go_simp; try with_reducible rfl
  try simp only [Act.put, List.getElem_toArray, List.getElem_cons_succ, List.getElem_cons_zero, List.setIfInBounds_toArray, List.set_cons_zero, List.set_cons_succ]
  refine reg_take (v := ?_) hR 18 rfl (by kernel_rfl) (by kernel_rfl) (by kernel_rfl) (fun _ _ _ h => h) (by rfl) ?_ ?_
  rotate_left
  · intro W hW; go_simp; try with_reducible rfl
  try simp only [Act.put, List.getElem_toArray, List.getElem_cons_succ, List.getElem_cons_zero, List.setIfInBounds_toArray, List.set_cons_zero, List.set_cons_succ]
  refine reg_take (v := ?_) hR 19 rfl (by kernel_rfl) (by kernel_rfl) (by kernel_rfl) (fun _ _ _ h => h) (by rfl) ?_ ?_
  rotate_left
  · intro W hW; go_simp; try with_reducible rfl
  try simp only [Act.put, List.getElem_toArray, List.getElem_cons_succ, List.getElem_cons_zero, List.setIfInBounds_toArray, List.set_cons_zero, List.set_cons_succ]
  refine reg_take (v := ?_) hR 20 rfl (by kernel_rfl) (by kernel_rfl) (by kernel_rfl) (fun _ _ _ h => h) (by rfl) ?_ ?_
  rotate_left
  · intro W hW; go_simp; try with_reducible rfl
  try simp only [Act.put, List.getElem_toArray, List.getElem_cons_succ, List.getElem_cons_zero, List.setIfInBounds_toArray, List.set_cons_zero, List.set_cons_succ]
  refine reg_take (v := ?_) hR 21 rfl (by kernel_rfl) (by kernel_rfl) (by kernel_rfl) (fun _ _ _ h => h) (by rfl) ?_ ?_
  rotate_left
  · intro W hW; go_simp; try with_reducible rfl
  try simp only [Act.put, List.getElem_toArray, List.getElem_cons_succ, List.getElem_cons_zero, List.setIfInBounds_toArray, List.set_cons_zero, List.set_cons_succ]
  refine reg_take (v := ?_) hR 22 rfl (by kernel_rfl) (by kernel_rfl) (by kernel_rfl) (fun _ _ _ h => h) (by rfl) ?_ ?_
  rotate_left
  · intro W hW; go_simp; try with_reducible rfl
  try simp only [Act.put, List.getElem_toArray, List.getElem_cons_succ, List.getElem_cons_zero, List.setIfInBounds_toArray, List.set_cons_zero, List.set_cons_succ]
  refine reg_take (v := .string (str L7)) hR 23 rfl (by kernel_rfl) (by kernel_rfl) (by kernel_rfl) (fun _ _ _ h => h) (by rfl) ?_ ?_
  · intro W hW; have := run_str (HX.out.below (bl_call HV1.out hW)); go_simp
  try simp only [Act.put, List.getElem_toArray, List.getElem_cons_succ, List.getElem_cons_zero, List.setIfInBounds_toArray, List.set_cons_zero, List.set_cons_succ]
  -- STEP 24: Op.call { callee := Callee.value (Operand.func 10), args := #[Operand.const (Value.int IntKind.u8 7)], argType
  refine reg_step hR 24 (by kernel_rfl) rfl fun K hK => ?_
  try simp only [Act.put, List.getElem_toArray, List.getElem_cons_succ, List.getElem_cons_zero, List.setIfInBounds_toArray, List.set_cons_zero, List.set_cons_succ]
  go_simp
  refine (HRow.out _).mono ?_; rintro x u2 ⟨g2, rfl, hr2, hu2⟩
  have HU2 := Lib.hid hu2; have HR2 := Lib.hid hr2; clear hu2 hr2
  refine hK.out _ _ ?_ ?_
  · exact HU2.out
  clear hK K
  try simp only [Act.put, List.getElem_toArray, List.getElem_cons_succ, List.getElem_cons_zero, List.setIfInBounds_toArray, List.set_cons_zero, List.set_cons_succ]
  refine reg_take (v := .string (str L7)) hR 25 rfl (by kernel_rfl) (by kernel_rfl) (by kernel_rfl) (fun _ _ _ h => h) (by rfl) ?_ ?_
  · intro W hW; have := run_str (HR2.out.below hW); go_simp
  try simp only [Act.put, List.getElem_toArray, List.getElem_cons_succ, List.getElem_cons_zero, List.setIfInBounds_toArray, List.set_cons_zero, List.set_cons_succ]
  refine reg_take (v := .bool true) hR 26 rfl (by kernel_rfl) (by kernel_rfl) (by kernel_rfl) (fun _ _ _ h => h) (by rfl) ?_ ?_
  · intro W hW; go_simp
  try simp only [Act.put, List.getElem_toArray, List.getElem_cons_succ, List.getElem_cons_zero, List.setIfInBounds_toArray, List.set_cons_zero, List.set_cons_succ]
  refine reg_take (v := ?_) hR 27 rfl (by kernel_rfl) (by kernel_rfl) (by kernel_rfl) (fun _ _ _ h => h) (by rfl) ?_ ?_
  rotate_left
  · intro W hW; go_simp; try with_reducible rfl
  try simp only [Act.put, List.getElem_toArray, List.getElem_cons_succ, List.getElem_cons_zero, List.setIfInBounds_toArray, List.set_cons_zero, List.set_cons_succ]
  refine reg_take (v := ?_) hR 28 rfl (by kernel_rfl) (by kernel_rfl) (by kernel_rfl) (fun _ _ _ h => h) (by rfl) ?_ ?_
  rotate_left
  · intro W hW; go_simp; try with_reducible rfl
  try simp only [Act.put, List.getElem_toArray, List.getElem_cons_succ, List.getElem_cons_zero, List.setIfInBounds_toArray, List.set_cons_zero, List.set_cons_succ]
  refine reg_take (v := ?_) hR 29 rfl (by kernel_rfl) (by kernel_rfl) (by kernel_rfl) (fun _ _ _ h => h) (by rfl) ?_ ?_
  rotate_left
  · intro W hW; go_simp; try with_reducible rfl
  try simp only [Act.put, List.getElem_toArray, List.getElem_cons_succ, List.getElem_cons_zero, List.setIfInBounds_toArray, List.set_cons_zero, List.set_cons_succ]
  refine reg_take (v := ?_) hR 30 rfl (by kernel_rfl) (by kernel_rfl) (by kernel_rfl) (fun _ _ _ h => h) (by rfl) ?_ ?_
  rotate_left
  · intro W hW; go_simp; try with_reducible rfl
  try simp only [Act.put, List.getElem_toArray, List.getElem_cons_succ, List.getElem_cons_zero, List.setIfInBounds_toArray, List.set_cons_zero, List.set_cons_succ]
  refine reg_take (v := ?_) hR 31 rfl (by kernel_rfl) (by kernel_rfl) (by kernel_rfl) (fun _ _ _ h => h) (by rfl) ?_ ?_
  rotate_left
  · intro W hW; go_simp; try with_reducible rfl
  try simp only [Act.put, List.getElem_toArray, List.getElem_cons_succ, List.getElem_cons_zero, List.setIfInBounds_toArray, List.set_cons_zero, List.set_cons_succ]
  refine reg_take (v := ?_) hR 32 rfl (by kernel_rfl) (by kernel_rfl) (by kernel_rfl) (fun _ _ _ h => h) (by rfl) ?_ ?_
  rotate_left
  · intro W hW; go_simp; try with_reducible rfl
  try simp only [Act.put, List.getElem_toArray, List.getElem_cons_succ, List.getElem_cons_zero, List.setIfInBounds_toArray, List.set_cons_zero, List.set_cons_succ]
  refine reg_take (v := ?_) hR 33 rfl (by kernel_rfl) (by kernel_rfl) (by kernel_rfl) (fun _ _ _ h => h) (by rfl) ?_ ?_
  rotate_left
  · intro W hW; go_simp; try with_reducible rfl
  try simp only [Act.put, List.getElem_toArray, List.getElem_cons_succ, List.getElem_cons_zero, List.setIfInBounds_toArray, List.set_cons_zero, List.set_cons_succ]
  refine reg_take (v := ?_) hR 34 rfl (by kernel_rfl) (by kernel_rfl) (by kernel_rfl) (fun _ _ _ h => h) (by rfl) ?_ ?_
  rotate_left
  · intro W hW; go_simp; try with_reducible rfl
  try simp only [Act.put, List.getElem_toArray, List.getElem_cons_succ, List.getElem_cons_zero, List.setIfInBounds_toArray, List.set_cons_zero, List.set_cons_succ]
  refine reg_take (v := ?_) hR 35 rfl (by kernel_rfl) (by kernel_rfl) (by kernel_rfl) (fun _ _ _ h => h) (by rfl) ?_ ?_
  rotate_left
  · intro W hW; go_simp; try with_reducible rfl
  try simp only [Act.put, List.getElem_toArray, List.getElem_cons_succ, List.getElem_cons_zero, List.setIfInBounds_toArray, List.set_cons_zero, List.set_cons_succ]
  refine reg_take (v := ?_) hR 36 rfl (by kernel_rfl) (by kernel_rfl) (by kernel_rfl) (fun _ _ _ h => h) (by rfl) ?_ ?_
  rotate_left
  · intro W hW; go_simp; try with_reducible rfl
  try simp only [Act.put, List.getElem_toArray, List.getElem_cons_succ, List.getElem_cons_zero, List.setIfInBounds_toArray, List.set_cons_zero, List.set_cons_succ]
  refine reg_take (v := ?_) hR 37 rfl (by kernel_rfl) (by kernel_rfl) (by kernel_rfl) (fun _ _ _ h => h) (by rfl) ?_ ?_
  rotate_left
  · intro W hW; go_simp; try with_reducible rfl
  try simp only [Act.put, List.getElem_toArray, List.getElem_cons_succ, List.getElem_cons_zero, List.setIfInBounds_toArray, List.set_cons_zero, List.set_cons_succ]
  refine reg_take (v := ?_) hR 38 rfl (by kernel_rfl) (by kernel_rfl) (by kernel_rfl) (fun _ _ _ h => h) (by rfl) ?_ ?_
  rotate_left
  · intro W hW; go_simp; try with_reducible rfl
  try simp only [Act.put, List.getElem_toArray, List.getElem_cons_succ, List.getElem_cons_zero, List.setIfInBounds_toArray, List.set_cons_zero, List.set_cons_succ]
  -- STEP 39: Op.call { callee := Callee.value (Operand.func 15), args := #[t91], argTypes := #[22] }
  refine reg_step hR 39 (by kernel_rfl) rfl fun K hK => ?_
  try simp only [Act.put, List.getElem_toArray, List.getElem_cons_succ, List.getElem_cons_zero, List.setIfInBounds_toArray, List.set_cons_zero, List.set_cons_succ]
  go_simp
  refine (size_any (HD.out.old (bl_call HV1.out HU2.out))).mono ?_; rintro x u3 ⟨rfl, rfl⟩
  refine hK.out _ _ ?_ ?_
  · exact hR.refl _
  clear hK K
  try simp only [Act.put, List.getElem_toArray, List.getElem_cons_succ, List.getElem_cons_zero, List.setIfInBounds_toArray, List.set_cons_zero, List.set_cons_succ]
  refine reg_take (v := ?_) hR 40 rfl (by kernel_rfl) (by kernel_rfl) (by kernel_rfl) (fun _ _ _ h => h) (by rfl) ?_ ?_
  rotate_left
  · intro W hW; go_simp; try with_reducible rfl
  try simp only [Act.put, List.getElem_toArray, List.getElem_cons_succ, List.getElem_cons_zero, List.setIfInBounds_toArray, List.set_cons_zero, List.set_cons_succ]
  refine reg_take (v := ?_) hR 41 rfl (by kernel_rfl) (by kernel_rfl) (by kernel_rfl) (fun _ _ _ h => h) (by rfl) ?_ ?_
  rotate_left
  · intro W hW; go_simp; try with_reducible rfl
  try simp only [Act.put, List.getElem_toArray, List.getElem_cons_succ, List.getElem_cons_zero, List.setIfInBounds_toArray, List.set_cons_zero, List.set_cons_succ]
  refine reg_take (v := ?_) hR 42 rfl (by kernel_rfl) (by kernel_rfl) (by kernel_rfl) (fun _ _ _ h => h) (by rfl) ?_ ?_
  rotate_left
  · intro W hW; go_simp; try with_reducible rfl
  try simp only [Act.put, List.getElem_toArray, List.getElem_cons_succ, List.getElem_cons_zero, List.setIfInBounds_toArray, List.set_cons_zero, List.set_cons_succ]
  refine reg_take (v := ?_) hR 43 rfl (by kernel_rfl) (by kernel_rfl) (by kernel_rfl) (fun _ _ _ h => h) (by rfl) ?_ ?_
  rotate_left
  · intro W hW; go_simp; try with_reducible rfl
  try simp only [Act.put, List.getElem_toArray, List.getElem_cons_succ, List.getElem_cons_zero, List.setIfInBounds_toArray, List.set_cons_zero, List.set_cons_succ]
  -- STEP 44: Op.call { callee := Callee.value (Operand.func 16), args := #[t96], argTypes := #[22] }
  refine reg_step hR 44 (by kernel_rfl) rfl fun K hK => ?_
  try simp only [Act.put, List.getElem_toArray, List.getElem_cons_succ, List.getElem_cons_zero, List.setIfInBounds_toArray, List.set_cons_zero, List.set_cons_succ]
  go_simp
  refine (clone_nil _).mono ?_; rintro x u4 ⟨rfl, rfl⟩
  refine hK.out _ _ ?_ ?_
  · exact hR.refl _
  clear hK K
  try simp only [Act.put, List.getElem_toArray, List.getElem_cons_succ, List.getElem_cons_zero, List.setIfInBounds_toArray, List.set_cons_zero, List.set_cons_succ]
  refine reg_take (v := ?_) hR 45 rfl (by kernel_rfl) (by kernel_rfl) (by kernel_rfl) (fun _ _ _ h => h) (by rfl) ?_ ?_
  rotate_left
  · intro W hW; go_simp; try with_reducible rfl
  try simp only [Act.put, List.getElem_toArray, List.getElem_cons_succ, List.getElem_cons_zero, List.setIfInBounds_toArray, List.set_cons_zero, List.set_cons_succ]
  refine reg_take (v := ?_) hR 46 rfl (by kernel_rfl) (by kernel_rfl) (by kernel_rfl) (fun _ _ _ h => h) (by rfl) ?_ ?_
  rotate_left
  · intro W hW; go_simp; try with_reducible rfl
  try simp only [Act.put, List.getElem_toArray, List.getElem_cons_succ, List.getElem_cons_zero, List.setIfInBounds_toArray, List.set_cons_zero, List.set_cons_succ]
  refine reg_take (v := ?_) hR 47 rfl (by kernel_rfl) (by kernel_rfl) (by kernel_rfl) (fun _ _ _ h => h) (by rfl) ?_ ?_
  rotate_left
  · intro W hW; go_simp; try with_reducible rfl
  try simp only [Act.put, List.getElem_toArray, List.getElem_cons_succ, List.getElem_cons_zero, List.setIfInBounds_toArray, List.set_cons_zero, List.set_cons_succ]
  refine reg_take (v := ?_) hR 48 rfl (by kernel_rfl) (by kernel_rfl) (by kernel_rfl) (fun _ _ _ h => h) (by rfl) ?_ ?_
  rotate_left
  · intro W hW; go_simp; try with_reducible rfl
  try simp only [Act.put, List.getElem_toArray, List.getElem_cons_succ, List.getElem_cons_zero, List.setIfInBounds_toArray, List.set_cons_zero, List.set_cons_succ]
  -- STEP 49: Op.call { callee := Callee.value (Operand.func 17), args := #[t101], argTypes := #[22] }
  refine reg_step hR 49 (by kernel_rfl) rfl fun K hK => ?_
  try simp only [Act.put, List.getElem_toArray, List.getElem_cons_succ, List.getElem_cons_zero, List.setIfInBounds_toArray, List.set_cons_zero, List.set_cons_succ]
  go_simp
  refine (flush_nil _).mono ?_; rintro x u5 ⟨rfl, rfl⟩
  refine hK.out _ _ ?_ ?_
  · exact hR.refl _
  clear hK K
  try simp only [Act.put, List.getElem_toArray, List.getElem_cons_succ, List.getElem_cons_zero, List.setIfInBounds_toArray, List.set_cons_zero, List.set_cons_succ]
  refine reg_take (v := ?_) hR 50 rfl (by kernel_rfl) (by kernel_rfl) (by kernel_rfl) (fun _ _ _ h => h) (by rfl) ?_ ?_
  rotate_left
  · intro W hW; go_simp; try with_reducible rfl
  try simp only [Act.put, List.getElem_toArray, List.getElem_cons_succ, List.getElem_cons_zero, List.setIfInBounds_toArray, List.set_cons_zero, List.set_cons_succ]
  refine reg_take (v := ?_) hR 51 rfl (by kernel_rfl) (by kernel_rfl) (by kernel_rfl) (fun _ _ _ h => h) (by rfl) ?_ ?_
  rotate_left
  · intro W hW; go_simp; try with_reducible rfl
  try simp only [Act.put, List.getElem_toArray, List.getElem_cons_succ, List.getElem_cons_zero, List.setIfInBounds_toArray, List.set_cons_zero, List.set_cons_succ]
  refine reg_take (v := ?_) hR 52 rfl (by kernel_rfl) (by kernel_rfl) (by kernel_rfl) (fun _ _ _ h => h) (by rfl) ?_ ?_
  rotate_left
  · intro W hW; go_simp; try with_reducible rfl
  try simp only [Act.put, List.getElem_toArray, List.getElem_cons_succ, List.getElem_cons_zero, List.setIfInBounds_toArray, List.set_cons_zero, List.set_cons_succ]
  refine reg_take (v := ?_) hR 53 rfl (by kernel_rfl) (by kernel_rfl) (by kernel_rfl) (fun _ _ _ h => h) (by rfl) ?_ ?_
  rotate_left
  · intro W hW; go_simp; try with_reducible rfl
  try simp only [Act.put, List.getElem_toArray, List.getElem_cons_succ, List.getElem_cons_zero, List.setIfInBounds_toArray, List.set_cons_zero, List.set_cons_succ]
  refine reg_take (v := ?_) hR 54 rfl (by kernel_rfl) (by kernel_rfl) (by kernel_rfl) (fun _ _ _ h => h) (by rfl) ?_ ?_
  rotate_left
  · intro W hW; go_simp; try with_reducible rfl
  try simp only [Act.put, List.getElem_toArray, List.getElem_cons_succ, List.getElem_cons_zero, List.setIfInBounds_toArray, List.set_cons_zero, List.set_cons_succ]
  refine reg_done (by kernel_rfl) ?_ _

  go_wp2
  go_ret
  exact ⟨rfl, bl_call HB.out (bl_call HV1.out HU2.out)⟩

end Go.Proofs.Ytphifbhgocjhcaa
