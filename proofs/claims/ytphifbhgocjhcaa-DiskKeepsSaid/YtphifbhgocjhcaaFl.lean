/- Clone. -/
import Derived.Test.YtphifbhgocjhcaaFk
import Derived.Test.YtphifbhgocjhcaaFe
namespace Go.Proofs.Ytphifbhgocjhcaa
set_option linter.unusedSimpArgs false
set_option linter.unusedVariables false
open Go.RowKit Go.Maps Go.Shelf

section
variable {w : World} {p s m : Nat} {B : List UInt8} {C : Ca}
theorem sclone_any (hs : Bk w s B) (n cap : Nat) (hB : B.length = n * 256) (h0 : 0 < n) (hn : n ≤ 16384) :
    Calls Try.prog 35 #[.slice (some ⟨s, 0, none⟩) n cap] w fun e w' => ∃ g cap', e = .returned (.slice (some ⟨g, 0, none⟩) n cap') ∧ w.heap.size ≤ g ∧ Below w.heap.size w w' ∧ n ≤ cap' ∧ cap' ≤ 9223372036854775807 ∧ Bk w' g B := by
  obtain ⟨i, hi, hz0, hz1, hz2⟩ := info_parts info63f
  have hc := AnyE.slices_Clone Try.cloneS i (.agg Try.zeroCells63) 256 256 hi hz0 hz1 hz2 (by rw [zero63]; show (cs8 (List.replicate 256 0)).toArray.size = 256; rw [List.size_toArray, cs8_length]; exact List.length_replicate) (by omega) Try.sizeOf63 s 0 n cap (cs8 B) w (by rw [cs8_length]; exact hB) (by simp only [maxLen]; omega) (by omega)
    (fun j u hj => by
      rw [Nat.zero_add]
      simp only [cs8, List.getElem?_map, Option.map_eq_some_iff] at hj
      obtain ⟨b, hb, rfl⟩ := hj
      exact hs.cell hb) (cs8_one B)
  change Calls Try.prog 35 _ _ _ at hc
  refine hc.mono ?_
  rintro e w' ⟨v', rfl, hown, hne, hb⟩
  rcases hown.2 with ⟨rfl, hz⟩ | ⟨g, cap', cur, rfl, hg, hblk, h1, h2, h3, h4⟩
  · exact absurd rfl hne
  · refine ⟨g, cap', rfl, hg, hb, h1, by simpa [maxLen] using h2, ⟨cur.toList.drop (n * 256), 63, ?_⟩⟩
    rw [← h4, List.take_append_drop]
    exact hblk
theorem mclone_any (h : Dk w p s m B C) :
    Calls Try.prog 36 #[.map (some m)] w fun e w' => e = .returned (.map (some w.heap.size)) ∧ (∃ k, w'.ownsMap Try.prog 3 secR w.heap.size k (dat sec C)) ∧ Below w.heap.size w w' := by
  obtain ⟨k, hm⟩ := h.hm
  have hc := AnyW.maps_Clone_owns Try.cloneM 3 secR m k (dat sec C) w hm
  change Calls Try.prog 36 _ _ _ at hc
  refine hc.mono ?_
  rintro e w' ⟨rfl, h1, _, hb⟩
  exact ⟨rfl, ⟨k, h1⟩, hb⟩

set_option maxRecDepth 100000 in
theorem clone_any (h : Dk w p s m B C) : Calls Try.prog 16 #[ptr p] w fun e w' => ∃ p' s' m', e = .returned (ptr p') ∧ Dk w' p' s' m' B C ∧ (w.heap.size ≤ p' ∧ w.heap.size ≤ s' ∧ w.heap.size ≤ m') ∧ Below w.heap.size w w' := by
  have HM := Lib.hid (made_any h)
  have HD := Lib.hid h
  have HP := Lib.hid h.plt
  obtain ⟨cap, hc, hc2, c0, c1⟩ := h.c0
  have HC0 := Lib.hid c0
  have HC1 := Lib.hid c1
  have HS : Hid (∀ W : World, ∀ cap : Nat, W = w.drew → Calls Try.prog 35 #[.slice (some ⟨s, 0, none⟩) C.length cap] W fun e w' => ∃ g cap', e = .returned (.slice (some ⟨g, 0, none⟩) C.length cap') ∧ W.heap.size ≤ g ∧ Below W.heap.size W w' ∧ C.length ≤ cap' ∧ cap' ≤ 9223372036854775807 ∧ Bk w' g B) :=
    Lib.hid (fun W cap e => sclone_any (by subst e; exact h.drew.hs) _ _ (by rw [h.hB, Nat.mul_comm]) h.h0 h.h1)
  have HMc : Hid (∀ W : World, Below w.heap.size w.drew W → Calls Try.prog 36 #[.map (some m)] W fun e w' => e = .returned (.map (some W.heap.size)) ∧ (∃ k, w'.ownsMap Try.prog 3 secR W.heap.size k (dat sec C)) ∧ Below W.heap.size W w') :=
    Lib.hid (fun W hW => mclone_any (h.drew.old hW))
  clear h c0 c1 hc hc2
  go_enter Try.func16, Try.ntmps16
  go_wp2_with (go_at_call 31; refine HM.out.mono ?_; rintro e w' ⟨rfl, rfl⟩)
  have hR := Old.stays
  refine reg_start Old follows_mixed ?_
-- region 3 of f16: 13 operations, draws: true
  refine reg_take (v := ?_) hR 0 rfl (by kernel_rfl) (by kernel_rfl) (by kernel_rfl) (fun _ _ _ h => h) (by rfl) ?_ ?_
  rotate_left
  · intro W hW; go_simp; try with_reducible rfl
  try simp only [Act.put, List.getElem_toArray, List.getElem_cons_succ, List.getElem_cons_zero, List.setIfInBounds_toArray, List.set_cons_zero, List.set_cons_succ]
  refine reg_take (v := ?_) hR 1 rfl (by kernel_rfl) (by kernel_rfl) (by kernel_rfl) (fun _ _ _ h => h) (by rfl) ?_ ?_
  rotate_left
  · intro W hW; go_simp; try with_reducible rfl
  try simp only [Act.put, List.getElem_toArray, List.getElem_cons_succ, List.getElem_cons_zero, List.setIfInBounds_toArray, List.set_cons_zero, List.set_cons_succ]
  refine reg_take (v := ?_) hR 2 rfl (by kernel_rfl) (by kernel_rfl) (by kernel_rfl) (fun _ _ _ h => h) (by rfl) ?_ ?_
  rotate_left
  · intro W hW; go_simp; try with_reducible rfl
  try simp only [Act.put, List.getElem_toArray, List.getElem_cons_succ, List.getElem_cons_zero, List.setIfInBounds_toArray, List.set_cons_zero, List.set_cons_succ]
  refine reg_take (v := .slice (some ⟨s, 0, none⟩) C.length cap) hR 3 rfl (by kernel_rfl) (by kernel_rfl) (by kernel_rfl) (fun _ _ _ h => h) (by rfl) ?_ ?_
  · intro W hW; have c0 := (hW.cell HP.out).trans HC0.out; go_simp
  try simp only [Act.put, List.getElem_toArray, List.getElem_cons_succ, List.getElem_cons_zero, List.setIfInBounds_toArray, List.set_cons_zero, List.set_cons_succ]
  refine reg_take (v := ?_) hR 5 rfl (by kernel_rfl) (by kernel_rfl) (by kernel_rfl) (fun _ _ _ h => h) (by rfl) ?_ ?_
  rotate_left
  · intro W hW; go_simp; try with_reducible rfl
  try simp only [Act.put, List.getElem_toArray, List.getElem_cons_succ, List.getElem_cons_zero, List.setIfInBounds_toArray, List.set_cons_zero, List.set_cons_succ]
  refine reg_take (v := ?_) hR 6 rfl (by kernel_rfl) (by kernel_rfl) (by kernel_rfl) (fun _ _ _ h => h) (by rfl) ?_ ?_
  rotate_left
  · intro W hW; go_simp; try with_reducible rfl
  try simp only [Act.put, List.getElem_toArray, List.getElem_cons_succ, List.getElem_cons_zero, List.setIfInBounds_toArray, List.set_cons_zero, List.set_cons_succ]
  refine reg_take (v := ?_) hR 7 rfl (by kernel_rfl) (by kernel_rfl) (by kernel_rfl) (fun _ _ _ h => h) (by rfl) ?_ ?_
  rotate_left
  · intro W hW; go_simp; try with_reducible rfl
  try simp only [Act.put, List.getElem_toArray, List.getElem_cons_succ, List.getElem_cons_zero, List.setIfInBounds_toArray, List.set_cons_zero, List.set_cons_succ]
  refine reg_take (v := .map (some m)) hR 8 rfl (by kernel_rfl) (by kernel_rfl) (by kernel_rfl) (fun _ _ _ h => h) (by rfl) ?_ ?_
  · intro W hW; have c1 := (hW.cell HP.out).trans HC1.out; go_simp
  try simp only [Act.put, List.getElem_toArray, List.getElem_cons_succ, List.getElem_cons_zero, List.setIfInBounds_toArray, List.set_cons_zero, List.set_cons_succ]
  -- STEP 4: Op.call { callee := Callee.value (Operand.func 35), args := #[t9], argTypes := #[58] }
  refine reg_step hR 4 (by kernel_rfl) rfl fun K hK => ?_
  try simp only [Act.put, List.getElem_toArray, List.getElem_cons_succ, List.getElem_cons_zero, List.setIfInBounds_toArray, List.set_cons_zero, List.set_cons_succ]
  go_simp
  refine (HS.out _ _ rfl).mono ?_; rintro x w1 ⟨g, cap1, rfl, hg1, hb1, hc1, hc1', hk1⟩
  have HB1 := Lib.hid hb1; have HG1 := Lib.hid hk1; have HGl := Lib.hid hg1; have HC1 := Lib.hid (And.intro hc1 hc1'); clear hk1 hb1 hg1 hc1 hc1'
  refine hK.out _ _ ?_ ?_
  · exact HB1.out
  clear hK K
  try simp only [Act.put, List.getElem_toArray, List.getElem_cons_succ, List.getElem_cons_zero, List.setIfInBounds_toArray, List.set_cons_zero, List.set_cons_succ]
  -- STEP 9: Op.call { callee := Callee.value (Operand.func 36), args := #[t14], argTypes := #[59] }
  refine reg_step hR 9 (by kernel_rfl) rfl fun K hK => ?_
  try simp only [Act.put, List.getElem_toArray, List.getElem_cons_succ, List.getElem_cons_zero, List.setIfInBounds_toArray, List.set_cons_zero, List.set_cons_succ]
  go_simp
  refine (HMc.out _ HB1.out).mono ?_; rintro x w2 ⟨rfl, hm2, hb2⟩
  have HB2 := Lib.hid hb2; have HM2 := Lib.hid hm2; clear hb2 hm2
  refine hK.out _ _ ?_ ?_
  · exact HB2.out
  clear hK K
  try simp only [Act.put, List.getElem_toArray, List.getElem_cons_succ, List.getElem_cons_zero, List.setIfInBounds_toArray, List.set_cons_zero, List.set_cons_succ]
  refine reg_take (v := ?_) hR 10 rfl (by kernel_rfl) (by kernel_rfl) (by kernel_rfl) (fun _ _ _ h => h) (by rfl) ?_ ?_
  rotate_left
  · intro W hW; go_simp; try with_reducible rfl
  try simp only [Act.put, List.getElem_toArray, List.getElem_cons_succ, List.getElem_cons_zero, List.setIfInBounds_toArray, List.set_cons_zero, List.set_cons_succ]
  -- STEP 11: Op.box 61 (t16)
  refine reg_step hR 11 (by kernel_rfl) rfl fun K hK => ?_
  try simp only [Act.put, List.getElem_toArray, List.getElem_cons_succ, List.getElem_cons_zero, List.setIfInBounds_toArray, List.set_cons_zero, List.set_cons_succ]
  go_simp
  
  refine hK.out _ _ ?_ ?_
  · exact bl_alloc (bl0 _) _
  clear hK K
  try simp only [Act.put, List.getElem_toArray, List.getElem_cons_succ, List.getElem_cons_zero, List.setIfInBounds_toArray, List.set_cons_zero, List.set_cons_succ]
  refine reg_take (v := ?_) hR 12 rfl (by kernel_rfl) (by kernel_rfl) (by kernel_rfl) (fun _ _ _ h => h) (by rfl) ?_ ?_
  rotate_left
  · intro W hW; go_simp; try with_reducible rfl
  try simp only [Act.put, List.getElem_toArray, List.getElem_cons_succ, List.getElem_cons_zero, List.setIfInBounds_toArray, List.set_cons_zero, List.set_cons_succ]
  refine reg_done (by kernel_rfl) ?_ _

  go_wp2
  go_ret
  have hb1 : Below w'.heap.size w' w1 := ⟨HB1.out.os, HB1.out.tape, HB1.out.output, HB1.out.size, HB1.out.block⟩
  have hg := HG1.out.lt
  have hgl : w'.heap.size ≤ g := HGl.out
  have hs1 := hb1.size
  have hs2 := HB2.out.size
  obtain ⟨k, hm2⟩ := HM2.out
  have hml := hm2.lt
  have hX := Below.heap_alloc w2 (Obj.cells #[Value.slice (some { block := g, off := 0 }) (List.length C) cap1, Value.map (some w1.heap.size)] 61)
  exact ⟨w2.heap.size, g, w1.heap.size, rfl, ⟨⟨cap1, HC1.out.1, HC1.out.2, heap_alloc_new w2 _⟩, (HG1.out.kept (HB2.out.block g hg)).kept (hX g (by omega)), ⟨k, ownsMap_of_heap hm2 (hX _ hml)⟩, HD.out.hB, HD.out.hC, HD.out.h0, HD.out.h1, by omega⟩, ⟨by omega, hgl, hs1⟩, bl_alloc (bl_call hb1 HB2.out) _⟩
end
end Go.Proofs.Ytphifbhgocjhcaa
