/- Numbers added, multiplied, and their negatives. -/
import Derived.Test.YtdfaliadkpdfpaaRe
namespace Go.Proofs.Ytdfaliadkpdfpaa
set_option linter.unusedSimpArgs false
set_option linter.unusedVariables false
open Go.RowKit

section
variable {P : Program} {ops : Array Oper} {Q : Exit → Act → World → Prop} {R : World → World → Prop}
/-- Some are ready: each way. -/
theorem reg_fork (hR : Stays R) {rs : List Nat} {fuel : Nat} {listed : Array Bool} {a : Act} {w : World} (hr : Region.ready .any ops listed = rs) (hne : rs ≠ [])
    (h : ∀ i, i ∈ rs → ∃ o, ops[i]? = some o ∧ ∀ K : Act → World → Prop, Shut (∀ a' w', R w w' → wpAnyH P .any ops Q (R w') fuel (listed.setIfInBounds i true) a' w' → K a' w') →
      if Region.wanted o (yielded ops a.tmps) = true then Oper.wp P o a w K Q else K (a.put o.dst undef) w) : wpAnyH P .any ops Q (R w) (fuel + 1) listed a w := by
  refine wpAnyH_all hr hne fun j hj => ?_
  obtain ⟨o, ho, h1⟩ := h j hj
  have h1 := h1 (fun a' w' => R w w' ∧ wpAnyH P .any ops Q (R w) fuel (listed.setIfInBounds j true) a' w') (fun a' w' hw hh => ⟨hw, held_weaken (fun W hW => hR.trans hw hW) _ _ _ _ hh⟩)
  unfold wpOp
  simp only [ho]
  split
  · rename_i hw; rw [if_pos hw] at h1; exact .inl h1
  · rename_i hw; rw [if_neg hw] at h1; exact h1
end
/-- Nothing is asked. -/
def Tr (_ _ : World) : Prop := True
theorem Tr.stays : Stays Tr := ⟨fun _ => trivial, fun _ _ => trivial⟩
theorem region_meetG {P : Program} {c : Code} {a : Act} {w : World} {Q : Exit → Act → World → Prop} (S : Act → World → Prop) (h1 : c.wp P (fun e a' w' => e = .normal ∧ S a' w') a w) (h2 : ∀ a' w', S a' w' → Q .normal a' w') : c.wp P Q a w :=
  Code.wp_mono (by rintro e a' w' ⟨rfl, h⟩; exact h2 a' w' h) h1
theorem wd_info (n : Nat) : (Try.prog.info? 40).map (·.size) = some (cs64 (wd n)).length := by rw [cs64_length, wd_length]; exact info40
theorem wd_zlen (n : Nat) : z40.length = (cs64 (wd n)).length := by rw [cs64_length, wd_length, len_z40]
theorem num_zlen (n : Nat) : z25.length = (cs8 (le 32 n)).length := by rw [cs8_length, le_length, len_z25]
theorem rd_num {w : World} {g top : Nat} (n : Nat) (h : Bk w g (cs8 (le 32 n))) (ht : g < top) : Rd w top (some ⟨g, 0, none⟩) 32 32 (le 32 n) := by
  obtain ⟨t, h⟩ := h
  have := Rd.of_block h ht
  rw [le_length] at this
  exact this
/-- The rest of a number that lies in a block. -/
theorem rest_blk (n : Nat) (hn : n < 256 ^ 32) (g : Nat) (w : World) (hg : Bk w g (cs8 (le 32 n))) :
    Calls Try.prog 14 #[.slice (some ⟨g, 0, none⟩) 32 32] w fun e w' => e = .returned (.agg (cs64 (wd (n % LL))).toArray) ∧ Below w.heap.size w w' := by
  have h := rest_any (some ⟨g, 0, none⟩) 32 32 (le 32 n) (by omega) w (rd_num n hg hg.lt)
  rw [val_le, Nat.mod_eq_of_lt hn] at h
  exact h
theorem times_blk (n : Nat) (hn : n < 256 ^ 32) (g k m : Nat) (hm : m < LL) (w : World) (hg : Bk w g (cs8 (le 32 n))) (hk : Bk w k (cs64 (wd m))) :
    Calls Try.prog 17 #[.slice (some ⟨g, 0, none⟩) 32 32, .pointer (some ⟨k, 0, none⟩)] w fun e w' => e = .returned (.agg (cs64 (wd (n * m % LL))).toArray) ∧ Below w.heap.size w w' := by
  have h := times_any (some ⟨g, 0, none⟩) 32 32 (le 32 n) (by omega) m k hm w (rd_num n hg hg.lt) hk
  rw [val_le, Nat.mod_eq_of_lt hn] at h
  exact h

set_option maxHeartbeats 3200000 in
set_option maxRecDepth 4096 in
theorem Add_any (a b : Nat) (ha : a < 256 ^ 32) (hb : b < 256 ^ 32) (w : World) : Calls Try.prog 10 #[num a, num b] w fun e w' => e = .returned (num ((a + b) % LL)) ∧ Below w.heap.size w w' := by
  have HX := Lib.hid (((Bk.new w (cs8 (le 32 a)) 25).old (.cells (cs8 (le 32 b)).toArray 25)).old (.cells z25.toArray 25))
  have HY : Hid (Bk (((w.alloc (.cells (cs8 (le 32 a)).toArray 25)).alloc (.cells (cs8 (le 32 b)).toArray 25)).alloc (.cells z25.toArray 25)) (w.heap.size + 1) (cs8 (le 32 b))) := Lib.hid (by
    have := (Bk.new (w.alloc (.cells (cs8 (le 32 a)).toArray 25)) (cs8 (le 32 b)) 25).old (.cells z25.toArray 25)
    simpa using this)
  have HR : Hid (Bk (((w.alloc (.cells (cs8 (le 32 a)).toArray 25)).alloc (.cells (cs8 (le 32 b)).toArray 25)).alloc (.cells z25.toArray 25)) (w.heap.size + 1 + 1) z25) := Lib.hid (by
    have := Bk.new ((w.alloc (.cells (cs8 (le 32 a)).toArray 25)).alloc (.cells (cs8 (le 32 b)).toArray 25)) z25 25
    simpa using this)
  have HB := Lib.hid (bl_alloc (bl_alloc (bl_alloc (bl0 w) (.cells (cs8 (le 32 a)).toArray 25)) (.cells (cs8 (le 32 b)).toArray 25)) (.cells z25.toArray 25))
  have HLX := Lib.hid (Nat.mod_lt a LL_pos)
  have HLY := Lib.hid (Nat.mod_lt b LL_pos)
  rw [show num a = .agg (cs8 (le 32 a)).toArray from rfl, show num b = .agg (cs8 (le 32 b)).toArray from rfl]
  go_enter Try.func10, Try.ntmps10
  go_wp2_with (first | (refine wpList_alloc_z rfl 25 rfl z25 zero25 ?_) | fail)
  generalize ((w.alloc (.cells (cs8 (le 32 a)).toArray 25)).alloc (.cells (cs8 (le 32 b)).toArray 25)).alloc (.cells z25.toArray 25) = w1 at HX HY HR HB ⊢
  refine region_meetG (fun a' w' => ∃ p q : Nat, a' = { tmps := #[.agg (cs8 (le 32 a)).toArray, .agg (cs8 (le 32 b)).toArray, .pointer (some ⟨w.heap.size, 0, none⟩), .pointer (some ⟨w.heap.size + 1, 0, none⟩), .pointer (some ⟨w.heap.size + 1 + 1, 0, none⟩), .pointer (some ⟨p, 0, none⟩), .pointer (some ⟨q, 0, none⟩), .slice (some ⟨w.heap.size, 0, none⟩) 32 32, .agg (cs64 (wd (a % LL))).toArray, .slice (some ⟨w.heap.size + 1, 0, none⟩) 32 32, .agg (cs64 (wd (b % LL))).toArray, undef, undef], defers := [] } ∧ p ≠ q ∧ p ≠ w.heap.size + 1 + 1 ∧ q ≠ w.heap.size + 1 + 1 ∧ w.heap.size ≤ p ∧ w.heap.size ≤ q ∧
    Hid (Bk w' p (cs64 (wd (a % LL)))) ∧ Hid (Bk w' q (cs64 (wd (b % LL)))) ∧ Hid (Bk w' (w.heap.size + 1 + 1) z25) ∧ Hid (Below w.heap.size w w')) ?_ ?_
  · have hR := Tr.stays
    refine reg_start Tr follows_mixed ?_
    have HX := Lib.hid HX.out.drew
    have HY := Lib.hid HY.out.drew
    have HR := Lib.hid HR.out.drew
    have HB := Lib.hid HB.out.drew
    generalize w1.drew = u0 at HX HY HR HB ⊢
    refine reg_take (v := ?_) hR 0 rfl (by kernel_rfl) (by kernel_rfl) (by kernel_rfl) (fun _ _ _ h => by cases h.1) (by rfl) ?_ ?_
    rotate_left
    · intro W hW; go_simp; try with_reducible rfl
    try simp only [Act.put, List.getElem_toArray, List.getElem_cons_succ, List.getElem_cons_zero, List.setIfInBounds_toArray, List.set_cons_zero, List.set_cons_succ]
    refine reg_take (v := ?_) hR 2 rfl (by kernel_rfl) (by kernel_rfl) (by kernel_rfl) (fun _ _ _ h => by cases h.1) (by rfl) ?_ ?_
    rotate_left
    · intro W hW; go_simp; try with_reducible rfl
    try simp only [Act.put, List.getElem_toArray, List.getElem_cons_succ, List.getElem_cons_zero, List.setIfInBounds_toArray, List.set_cons_zero, List.set_cons_succ]
    refine reg_fork (rs := [1, 4, 5]) hR (by kernel_rfl) (by simp) ?_
    intro i hi; simp only [List.mem_cons, List.not_mem_nil, or_false] at hi
    rcases hi with rfl | rfl | rfl
    · refine ⟨_, rfl, fun K hK => ?_⟩
      try simp only [Act.put, List.getElem_toArray, List.getElem_cons_succ, List.getElem_cons_zero, List.setIfInBounds_toArray, List.set_cons_zero, List.set_cons_succ]
      rw [if_pos (by rfl)]
      go_simp
      refine (rest_blk a ha w.heap.size _ HX.out).mono ?_; rintro e u1 ⟨rfl, hb⟩
      refine hK.out _ _ trivial ?_
      clear hK K
      have HX := Lib.hid (HX.out.keep hb)
      have HY := Lib.hid (HY.out.keep hb)
      have HR := Lib.hid (HR.out.keep hb)
      have HB := Lib.hid (bl_call HB.out hb)
      clear hb
      try simp only [Act.put, List.getElem_toArray, List.getElem_cons_succ, List.getElem_cons_zero, List.setIfInBounds_toArray, List.set_cons_zero, List.set_cons_succ]
      refine reg_fork (rs := [3, 4, 5]) hR (by kernel_rfl) (by simp) ?_
      intro i hi; simp only [List.mem_cons, List.not_mem_nil, or_false] at hi
      rcases hi with rfl | rfl | rfl
      · refine ⟨_, rfl, fun K hK => ?_⟩
        try simp only [Act.put, List.getElem_toArray, List.getElem_cons_succ, List.getElem_cons_zero, List.setIfInBounds_toArray, List.set_cons_zero, List.set_cons_succ]
        rw [if_pos (by rfl)]
        go_simp
        refine (rest_blk b hb (w.heap.size + 1) _ HY.out).mono ?_; rintro e u2 ⟨rfl, hb⟩
        refine hK.out _ _ trivial ?_
        clear hK K
        have HX := Lib.hid (HX.out.keep hb)
        have HY := Lib.hid (HY.out.keep hb)
        have HR := Lib.hid (HR.out.keep hb)
        have HB := Lib.hid (bl_call HB.out hb)
        clear hb
        try simp only [Act.put, List.getElem_toArray, List.getElem_cons_succ, List.getElem_cons_zero, List.setIfInBounds_toArray, List.set_cons_zero, List.set_cons_succ]
        refine reg_fork (rs := [4, 5]) hR (by kernel_rfl) (by simp) ?_
        intro i hi; simp only [List.mem_cons, List.not_mem_nil, or_false] at hi
        rcases hi with rfl | rfl
        · refine ⟨_, rfl, fun K hK => ?_⟩
          try simp only [Act.put, List.getElem_toArray, List.getElem_cons_succ, List.getElem_cons_zero, List.setIfInBounds_toArray, List.set_cons_zero, List.set_cons_succ]
          rw [if_pos (by rfl)]
          refine wp_alloc_z 40 rfl z40 zero40 ?_
          refine hK.out _ _ trivial ?_
          clear hK K
          have hnHXp : w.heap.size ≠ u2.heap.size := by have := HX.out.lt; omega
          have hnHYp : w.heap.size + 1 ≠ u2.heap.size := by have := HY.out.lt; omega
          have hnHRp : w.heap.size + 1 + 1 ≠ u2.heap.size := by have := HR.out.lt; omega
          have Hp := Lib.hid (Bk.new u2 z40 40)
          have HX := Lib.hid (HX.out.old (.cells z40.toArray 40))
          have HY := Lib.hid (HY.out.old (.cells z40.toArray 40))
          have HR := Lib.hid (HR.out.old (.cells z40.toArray 40))
          have hlp : w.heap.size ≤ u2.heap.size := HB.out.size
          have HB := Lib.hid (bl_alloc HB.out (.cells z40.toArray 40))
          generalize hg : u2.alloc (.cells z40.toArray 40) = u3 at Hp HX HY HR HB ⊢
          clear hg
          generalize hg : u2.heap.size = p at *
          clear hg
          try simp only [Act.put, List.getElem_toArray, List.getElem_cons_succ, List.getElem_cons_zero, List.setIfInBounds_toArray, List.set_cons_zero, List.set_cons_succ]
          refine reg_step hR 5 (by kernel_rfl) rfl fun K hK => ?_
          try simp only [Act.put, List.getElem_toArray, List.getElem_cons_succ, List.getElem_cons_zero, List.setIfInBounds_toArray, List.set_cons_zero, List.set_cons_succ]
          rw [if_pos (by rfl)]
          refine wp_alloc_z 40 rfl z40 zero40 ?_
          refine hK.out _ _ trivial ?_
          clear hK K
          have hnHXq : w.heap.size ≠ u3.heap.size := by have := HX.out.lt; omega
          have hnHYq : w.heap.size + 1 ≠ u3.heap.size := by have := HY.out.lt; omega
          have hnHRq : w.heap.size + 1 + 1 ≠ u3.heap.size := by have := HR.out.lt; omega
          have hnHpq : p ≠ u3.heap.size := by have := Hp.out.lt; omega
          have Hq := Lib.hid (Bk.new u3 z40 40)
          have HX := Lib.hid (HX.out.old (.cells z40.toArray 40))
          have HY := Lib.hid (HY.out.old (.cells z40.toArray 40))
          have HR := Lib.hid (HR.out.old (.cells z40.toArray 40))
          have Hp := Lib.hid (Hp.out.old (.cells z40.toArray 40))
          have hlq : w.heap.size ≤ u3.heap.size := HB.out.size
          have HB := Lib.hid (bl_alloc HB.out (.cells z40.toArray 40))
          generalize hg : u3.alloc (.cells z40.toArray 40) = u4 at Hq HX HY HR Hp HB ⊢
          clear hg
          generalize hg : u3.heap.size = q at *
          clear hg
          try simp only [Act.put, List.getElem_toArray, List.getElem_cons_succ, List.getElem_cons_zero, List.setIfInBounds_toArray, List.set_cons_zero, List.set_cons_succ]
          refine reg_step hR 6 (by kernel_rfl) rfl fun K hK => ?_
          try simp only [Act.put, List.getElem_toArray, List.getElem_cons_succ, List.getElem_cons_zero, List.setIfInBounds_toArray, List.set_cons_zero, List.set_cons_succ]
          rw [if_pos (by rfl)]
          refine wp_store_bk 40 _ _ rfl p rfl (cs64 (wd (a % LL))) z40 rfl Hp.out (wd_info _) (wd_zlen _) (cs64_one _) ?_
          refine hK.out _ _ trivial ?_
          clear hK K
          have HX := Lib.hid (HX.out.other (show w.heap.size ≠ p by omega) (cs64 (wd (a % LL))).toArray)
          have HY := Lib.hid (HY.out.other (show w.heap.size + 1 ≠ p by omega) (cs64 (wd (a % LL))).toArray)
          have HR := Lib.hid (HR.out.other (show w.heap.size + 1 + 1 ≠ p by omega) (cs64 (wd (a % LL))).toArray)
          have Hp := Lib.hid (Hp.out.setRow (cs64 (wd (a % LL))))
          have Hq := Lib.hid (Hq.out.other (show q ≠ p by omega) (cs64 (wd (a % LL))).toArray)
          have HB := Lib.hid (bl_setRow HB.out (show w.heap.size ≤ p by omega) (cs64 (wd (a % LL))).toArray)
          generalize hg : u4.setRow p (cs64 (wd (a % LL))).toArray = u5 at HX HY HR Hp Hq HB ⊢
          clear hg
          try simp only [Act.put, List.getElem_toArray, List.getElem_cons_succ, List.getElem_cons_zero, List.setIfInBounds_toArray, List.set_cons_zero, List.set_cons_succ]
          refine reg_step hR 7 (by kernel_rfl) rfl fun K hK => ?_
          try simp only [Act.put, List.getElem_toArray, List.getElem_cons_succ, List.getElem_cons_zero, List.setIfInBounds_toArray, List.set_cons_zero, List.set_cons_succ]
          rw [if_pos (by rfl)]
          refine wp_store_bk 40 _ _ rfl q rfl (cs64 (wd (b % LL))) z40 rfl Hq.out (wd_info _) (wd_zlen _) (cs64_one _) ?_
          refine hK.out _ _ trivial ?_
          clear hK K
          have HX := Lib.hid (HX.out.other (show w.heap.size ≠ q by omega) (cs64 (wd (b % LL))).toArray)
          have HY := Lib.hid (HY.out.other (show w.heap.size + 1 ≠ q by omega) (cs64 (wd (b % LL))).toArray)
          have HR := Lib.hid (HR.out.other (show w.heap.size + 1 + 1 ≠ q by omega) (cs64 (wd (b % LL))).toArray)
          have Hp := Lib.hid (Hp.out.other (show p ≠ q by omega) (cs64 (wd (b % LL))).toArray)
          have Hq := Lib.hid (Hq.out.setRow (cs64 (wd (b % LL))))
          have HB := Lib.hid (bl_setRow HB.out (show w.heap.size ≤ q by omega) (cs64 (wd (b % LL))).toArray)
          generalize hg : u5.setRow q (cs64 (wd (b % LL))).toArray = u6 at HX HY HR Hp Hq HB ⊢
          clear hg
          try simp only [Act.put, List.getElem_toArray, List.getElem_cons_succ, List.getElem_cons_zero, List.setIfInBounds_toArray, List.set_cons_zero, List.set_cons_succ]
          refine reg_done (by kernel_rfl) ?_ _
          exact ⟨rfl, p, q, rfl, by omega, by omega, by omega, by omega, by omega, Hp, Hq, HR, HB⟩
        · refine ⟨_, rfl, fun K hK => ?_⟩
          try simp only [Act.put, List.getElem_toArray, List.getElem_cons_succ, List.getElem_cons_zero, List.setIfInBounds_toArray, List.set_cons_zero, List.set_cons_succ]
          rw [if_pos (by rfl)]
          refine wp_alloc_z 40 rfl z40 zero40 ?_
          refine hK.out _ _ trivial ?_
          clear hK K
          have hnHXq : w.heap.size ≠ u2.heap.size := by have := HX.out.lt; omega
          have hnHYq : w.heap.size + 1 ≠ u2.heap.size := by have := HY.out.lt; omega
          have hnHRq : w.heap.size + 1 + 1 ≠ u2.heap.size := by have := HR.out.lt; omega
          have Hq := Lib.hid (Bk.new u2 z40 40)
          have HX := Lib.hid (HX.out.old (.cells z40.toArray 40))
          have HY := Lib.hid (HY.out.old (.cells z40.toArray 40))
          have HR := Lib.hid (HR.out.old (.cells z40.toArray 40))
          have hlq : w.heap.size ≤ u2.heap.size := HB.out.size
          have HB := Lib.hid (bl_alloc HB.out (.cells z40.toArray 40))
          generalize hg : u2.alloc (.cells z40.toArray 40) = u3 at Hq HX HY HR HB ⊢
          clear hg
          generalize hg : u2.heap.size = q at *
          clear hg
          try simp only [Act.put, List.getElem_toArray, List.getElem_cons_succ, List.getElem_cons_zero, List.setIfInBounds_toArray, List.set_cons_zero, List.set_cons_succ]
          refine reg_step hR 4 (by kernel_rfl) rfl fun K hK => ?_
          try simp only [Act.put, List.getElem_toArray, List.getElem_cons_succ, List.getElem_cons_zero, List.setIfInBounds_toArray, List.set_cons_zero, List.set_cons_succ]
          rw [if_pos (by rfl)]
          refine wp_alloc_z 40 rfl z40 zero40 ?_
          refine hK.out _ _ trivial ?_
          clear hK K
          have hnHXp : w.heap.size ≠ u3.heap.size := by have := HX.out.lt; omega
          have hnHYp : w.heap.size + 1 ≠ u3.heap.size := by have := HY.out.lt; omega
          have hnHRp : w.heap.size + 1 + 1 ≠ u3.heap.size := by have := HR.out.lt; omega
          have hnHqp : q ≠ u3.heap.size := by have := Hq.out.lt; omega
          have Hp := Lib.hid (Bk.new u3 z40 40)
          have HX := Lib.hid (HX.out.old (.cells z40.toArray 40))
          have HY := Lib.hid (HY.out.old (.cells z40.toArray 40))
          have HR := Lib.hid (HR.out.old (.cells z40.toArray 40))
          have Hq := Lib.hid (Hq.out.old (.cells z40.toArray 40))
          have hlp : w.heap.size ≤ u3.heap.size := HB.out.size
          have HB := Lib.hid (bl_alloc HB.out (.cells z40.toArray 40))
          generalize hg : u3.alloc (.cells z40.toArray 40) = u4 at Hp HX HY HR Hq HB ⊢
          clear hg
          generalize hg : u3.heap.size = p at *
          clear hg
          try simp only [Act.put, List.getElem_toArray, List.getElem_cons_succ, List.getElem_cons_zero, List.setIfInBounds_toArray, List.set_cons_zero, List.set_cons_succ]
          refine reg_step hR 6 (by kernel_rfl) rfl fun K hK => ?_
          try simp only [Act.put, List.getElem_toArray, List.getElem_cons_succ, List.getElem_cons_zero, List.setIfInBounds_toArray, List.set_cons_zero, List.set_cons_succ]
          rw [if_pos (by rfl)]
          refine wp_store_bk 40 _ _ rfl p rfl (cs64 (wd (a % LL))) z40 rfl Hp.out (wd_info _) (wd_zlen _) (cs64_one _) ?_
          refine hK.out _ _ trivial ?_
          clear hK K
          have HX := Lib.hid (HX.out.other (show w.heap.size ≠ p by omega) (cs64 (wd (a % LL))).toArray)
          have HY := Lib.hid (HY.out.other (show w.heap.size + 1 ≠ p by omega) (cs64 (wd (a % LL))).toArray)
          have HR := Lib.hid (HR.out.other (show w.heap.size + 1 + 1 ≠ p by omega) (cs64 (wd (a % LL))).toArray)
          have Hq := Lib.hid (Hq.out.other (show q ≠ p by omega) (cs64 (wd (a % LL))).toArray)
          have Hp := Lib.hid (Hp.out.setRow (cs64 (wd (a % LL))))
          have HB := Lib.hid (bl_setRow HB.out (show w.heap.size ≤ p by omega) (cs64 (wd (a % LL))).toArray)
          generalize hg : u4.setRow p (cs64 (wd (a % LL))).toArray = u5 at HX HY HR Hq Hp HB ⊢
          clear hg
          try simp only [Act.put, List.getElem_toArray, List.getElem_cons_succ, List.getElem_cons_zero, List.setIfInBounds_toArray, List.set_cons_zero, List.set_cons_succ]
          refine reg_step hR 7 (by kernel_rfl) rfl fun K hK => ?_
          try simp only [Act.put, List.getElem_toArray, List.getElem_cons_succ, List.getElem_cons_zero, List.setIfInBounds_toArray, List.set_cons_zero, List.set_cons_succ]
          rw [if_pos (by rfl)]
          refine wp_store_bk 40 _ _ rfl q rfl (cs64 (wd (b % LL))) z40 rfl Hq.out (wd_info _) (wd_zlen _) (cs64_one _) ?_
          refine hK.out _ _ trivial ?_
          clear hK K
          have HX := Lib.hid (HX.out.other (show w.heap.size ≠ q by omega) (cs64 (wd (b % LL))).toArray)
          have HY := Lib.hid (HY.out.other (show w.heap.size + 1 ≠ q by omega) (cs64 (wd (b % LL))).toArray)
          have HR := Lib.hid (HR.out.other (show w.heap.size + 1 + 1 ≠ q by omega) (cs64 (wd (b % LL))).toArray)
          have Hq := Lib.hid (Hq.out.setRow (cs64 (wd (b % LL))))
          have Hp := Lib.hid (Hp.out.other (show p ≠ q by omega) (cs64 (wd (b % LL))).toArray)
          have HB := Lib.hid (bl_setRow HB.out (show w.heap.size ≤ q by omega) (cs64 (wd (b % LL))).toArray)
          generalize hg : u5.setRow q (cs64 (wd (b % LL))).toArray = u6 at HX HY HR Hq Hp HB ⊢
          clear hg
          try simp only [Act.put, List.getElem_toArray, List.getElem_cons_succ, List.getElem_cons_zero, List.setIfInBounds_toArray, List.set_cons_zero, List.set_cons_succ]
          refine reg_done (by kernel_rfl) ?_ _
          exact ⟨rfl, p, q, rfl, by omega, by omega, by omega, by omega, by omega, Hp, Hq, HR, HB⟩
      · refine ⟨_, rfl, fun K hK => ?_⟩
        try simp only [Act.put, List.getElem_toArray, List.getElem_cons_succ, List.getElem_cons_zero, List.setIfInBounds_toArray, List.set_cons_zero, List.set_cons_succ]
        rw [if_pos (by rfl)]
        refine wp_alloc_z 40 rfl z40 zero40 ?_
        refine hK.out _ _ trivial ?_
        clear hK K
        have hnHXp : w.heap.size ≠ u1.heap.size := by have := HX.out.lt; omega
        have hnHYp : w.heap.size + 1 ≠ u1.heap.size := by have := HY.out.lt; omega
        have hnHRp : w.heap.size + 1 + 1 ≠ u1.heap.size := by have := HR.out.lt; omega
        have Hp := Lib.hid (Bk.new u1 z40 40)
        have HX := Lib.hid (HX.out.old (.cells z40.toArray 40))
        have HY := Lib.hid (HY.out.old (.cells z40.toArray 40))
        have HR := Lib.hid (HR.out.old (.cells z40.toArray 40))
        have hlp : w.heap.size ≤ u1.heap.size := HB.out.size
        have HB := Lib.hid (bl_alloc HB.out (.cells z40.toArray 40))
        generalize hg : u1.alloc (.cells z40.toArray 40) = u2 at Hp HX HY HR HB ⊢
        clear hg
        generalize hg : u1.heap.size = p at *
        clear hg
        try simp only [Act.put, List.getElem_toArray, List.getElem_cons_succ, List.getElem_cons_zero, List.setIfInBounds_toArray, List.set_cons_zero, List.set_cons_succ]
        refine reg_fork (rs := [3, 5]) hR (by kernel_rfl) (by simp) ?_
        intro i hi; simp only [List.mem_cons, List.not_mem_nil, or_false] at hi
        rcases hi with rfl | rfl
        · refine ⟨_, rfl, fun K hK => ?_⟩
          try simp only [Act.put, List.getElem_toArray, List.getElem_cons_succ, List.getElem_cons_zero, List.setIfInBounds_toArray, List.set_cons_zero, List.set_cons_succ]
          rw [if_pos (by rfl)]
          go_simp
          refine (rest_blk b hb (w.heap.size + 1) _ HY.out).mono ?_; rintro e u3 ⟨rfl, hb⟩
          refine hK.out _ _ trivial ?_
          clear hK K
          have HX := Lib.hid (HX.out.keep hb)
          have HY := Lib.hid (HY.out.keep hb)
          have HR := Lib.hid (HR.out.keep hb)
          have Hp := Lib.hid (Hp.out.keep hb)
          have HB := Lib.hid (bl_call HB.out hb)
          clear hb
          try simp only [Act.put, List.getElem_toArray, List.getElem_cons_succ, List.getElem_cons_zero, List.setIfInBounds_toArray, List.set_cons_zero, List.set_cons_succ]
          refine reg_step hR 5 (by kernel_rfl) rfl fun K hK => ?_
          try simp only [Act.put, List.getElem_toArray, List.getElem_cons_succ, List.getElem_cons_zero, List.setIfInBounds_toArray, List.set_cons_zero, List.set_cons_succ]
          rw [if_pos (by rfl)]
          refine wp_alloc_z 40 rfl z40 zero40 ?_
          refine hK.out _ _ trivial ?_
          clear hK K
          have hnHXq : w.heap.size ≠ u3.heap.size := by have := HX.out.lt; omega
          have hnHYq : w.heap.size + 1 ≠ u3.heap.size := by have := HY.out.lt; omega
          have hnHRq : w.heap.size + 1 + 1 ≠ u3.heap.size := by have := HR.out.lt; omega
          have hnHpq : p ≠ u3.heap.size := by have := Hp.out.lt; omega
          have Hq := Lib.hid (Bk.new u3 z40 40)
          have HX := Lib.hid (HX.out.old (.cells z40.toArray 40))
          have HY := Lib.hid (HY.out.old (.cells z40.toArray 40))
          have HR := Lib.hid (HR.out.old (.cells z40.toArray 40))
          have Hp := Lib.hid (Hp.out.old (.cells z40.toArray 40))
          have hlq : w.heap.size ≤ u3.heap.size := HB.out.size
          have HB := Lib.hid (bl_alloc HB.out (.cells z40.toArray 40))
          generalize hg : u3.alloc (.cells z40.toArray 40) = u4 at Hq HX HY HR Hp HB ⊢
          clear hg
          generalize hg : u3.heap.size = q at *
          clear hg
          try simp only [Act.put, List.getElem_toArray, List.getElem_cons_succ, List.getElem_cons_zero, List.setIfInBounds_toArray, List.set_cons_zero, List.set_cons_succ]
          refine reg_step hR 6 (by kernel_rfl) rfl fun K hK => ?_
          try simp only [Act.put, List.getElem_toArray, List.getElem_cons_succ, List.getElem_cons_zero, List.setIfInBounds_toArray, List.set_cons_zero, List.set_cons_succ]
          rw [if_pos (by rfl)]
          refine wp_store_bk 40 _ _ rfl p rfl (cs64 (wd (a % LL))) z40 rfl Hp.out (wd_info _) (wd_zlen _) (cs64_one _) ?_
          refine hK.out _ _ trivial ?_
          clear hK K
          have HX := Lib.hid (HX.out.other (show w.heap.size ≠ p by omega) (cs64 (wd (a % LL))).toArray)
          have HY := Lib.hid (HY.out.other (show w.heap.size + 1 ≠ p by omega) (cs64 (wd (a % LL))).toArray)
          have HR := Lib.hid (HR.out.other (show w.heap.size + 1 + 1 ≠ p by omega) (cs64 (wd (a % LL))).toArray)
          have Hp := Lib.hid (Hp.out.setRow (cs64 (wd (a % LL))))
          have Hq := Lib.hid (Hq.out.other (show q ≠ p by omega) (cs64 (wd (a % LL))).toArray)
          have HB := Lib.hid (bl_setRow HB.out (show w.heap.size ≤ p by omega) (cs64 (wd (a % LL))).toArray)
          generalize hg : u4.setRow p (cs64 (wd (a % LL))).toArray = u5 at HX HY HR Hp Hq HB ⊢
          clear hg
          try simp only [Act.put, List.getElem_toArray, List.getElem_cons_succ, List.getElem_cons_zero, List.setIfInBounds_toArray, List.set_cons_zero, List.set_cons_succ]
          refine reg_step hR 7 (by kernel_rfl) rfl fun K hK => ?_
          try simp only [Act.put, List.getElem_toArray, List.getElem_cons_succ, List.getElem_cons_zero, List.setIfInBounds_toArray, List.set_cons_zero, List.set_cons_succ]
          rw [if_pos (by rfl)]
          refine wp_store_bk 40 _ _ rfl q rfl (cs64 (wd (b % LL))) z40 rfl Hq.out (wd_info _) (wd_zlen _) (cs64_one _) ?_
          refine hK.out _ _ trivial ?_
          clear hK K
          have HX := Lib.hid (HX.out.other (show w.heap.size ≠ q by omega) (cs64 (wd (b % LL))).toArray)
          have HY := Lib.hid (HY.out.other (show w.heap.size + 1 ≠ q by omega) (cs64 (wd (b % LL))).toArray)
          have HR := Lib.hid (HR.out.other (show w.heap.size + 1 + 1 ≠ q by omega) (cs64 (wd (b % LL))).toArray)
          have Hp := Lib.hid (Hp.out.other (show p ≠ q by omega) (cs64 (wd (b % LL))).toArray)
          have Hq := Lib.hid (Hq.out.setRow (cs64 (wd (b % LL))))
          have HB := Lib.hid (bl_setRow HB.out (show w.heap.size ≤ q by omega) (cs64 (wd (b % LL))).toArray)
          generalize hg : u5.setRow q (cs64 (wd (b % LL))).toArray = u6 at HX HY HR Hp Hq HB ⊢
          clear hg
          try simp only [Act.put, List.getElem_toArray, List.getElem_cons_succ, List.getElem_cons_zero, List.setIfInBounds_toArray, List.set_cons_zero, List.set_cons_succ]
          refine reg_done (by kernel_rfl) ?_ _
          exact ⟨rfl, p, q, rfl, by omega, by omega, by omega, by omega, by omega, Hp, Hq, HR, HB⟩
        · refine ⟨_, rfl, fun K hK => ?_⟩
          try simp only [Act.put, List.getElem_toArray, List.getElem_cons_succ, List.getElem_cons_zero, List.setIfInBounds_toArray, List.set_cons_zero, List.set_cons_succ]
          rw [if_pos (by rfl)]
          refine wp_alloc_z 40 rfl z40 zero40 ?_
          refine hK.out _ _ trivial ?_
          clear hK K
          have hnHXq : w.heap.size ≠ u2.heap.size := by have := HX.out.lt; omega
          have hnHYq : w.heap.size + 1 ≠ u2.heap.size := by have := HY.out.lt; omega
          have hnHRq : w.heap.size + 1 + 1 ≠ u2.heap.size := by have := HR.out.lt; omega
          have hnHpq : p ≠ u2.heap.size := by have := Hp.out.lt; omega
          have Hq := Lib.hid (Bk.new u2 z40 40)
          have HX := Lib.hid (HX.out.old (.cells z40.toArray 40))
          have HY := Lib.hid (HY.out.old (.cells z40.toArray 40))
          have HR := Lib.hid (HR.out.old (.cells z40.toArray 40))
          have Hp := Lib.hid (Hp.out.old (.cells z40.toArray 40))
          have hlq : w.heap.size ≤ u2.heap.size := HB.out.size
          have HB := Lib.hid (bl_alloc HB.out (.cells z40.toArray 40))
          generalize hg : u2.alloc (.cells z40.toArray 40) = u3 at Hq HX HY HR Hp HB ⊢
          clear hg
          generalize hg : u2.heap.size = q at *
          clear hg
          try simp only [Act.put, List.getElem_toArray, List.getElem_cons_succ, List.getElem_cons_zero, List.setIfInBounds_toArray, List.set_cons_zero, List.set_cons_succ]
          refine reg_step hR 3 (by kernel_rfl) rfl fun K hK => ?_
          try simp only [Act.put, List.getElem_toArray, List.getElem_cons_succ, List.getElem_cons_zero, List.setIfInBounds_toArray, List.set_cons_zero, List.set_cons_succ]
          rw [if_pos (by rfl)]
          go_simp
          refine (rest_blk b hb (w.heap.size + 1) _ HY.out).mono ?_; rintro e u4 ⟨rfl, hb⟩
          refine hK.out _ _ trivial ?_
          clear hK K
          have HX := Lib.hid (HX.out.keep hb)
          have HY := Lib.hid (HY.out.keep hb)
          have HR := Lib.hid (HR.out.keep hb)
          have Hp := Lib.hid (Hp.out.keep hb)
          have Hq := Lib.hid (Hq.out.keep hb)
          have HB := Lib.hid (bl_call HB.out hb)
          clear hb
          try simp only [Act.put, List.getElem_toArray, List.getElem_cons_succ, List.getElem_cons_zero, List.setIfInBounds_toArray, List.set_cons_zero, List.set_cons_succ]
          refine reg_step hR 6 (by kernel_rfl) rfl fun K hK => ?_
          try simp only [Act.put, List.getElem_toArray, List.getElem_cons_succ, List.getElem_cons_zero, List.setIfInBounds_toArray, List.set_cons_zero, List.set_cons_succ]
          rw [if_pos (by rfl)]
          refine wp_store_bk 40 _ _ rfl p rfl (cs64 (wd (a % LL))) z40 rfl Hp.out (wd_info _) (wd_zlen _) (cs64_one _) ?_
          refine hK.out _ _ trivial ?_
          clear hK K
          have HX := Lib.hid (HX.out.other (show w.heap.size ≠ p by omega) (cs64 (wd (a % LL))).toArray)
          have HY := Lib.hid (HY.out.other (show w.heap.size + 1 ≠ p by omega) (cs64 (wd (a % LL))).toArray)
          have HR := Lib.hid (HR.out.other (show w.heap.size + 1 + 1 ≠ p by omega) (cs64 (wd (a % LL))).toArray)
          have Hp := Lib.hid (Hp.out.setRow (cs64 (wd (a % LL))))
          have Hq := Lib.hid (Hq.out.other (show q ≠ p by omega) (cs64 (wd (a % LL))).toArray)
          have HB := Lib.hid (bl_setRow HB.out (show w.heap.size ≤ p by omega) (cs64 (wd (a % LL))).toArray)
          generalize hg : u4.setRow p (cs64 (wd (a % LL))).toArray = u5 at HX HY HR Hp Hq HB ⊢
          clear hg
          try simp only [Act.put, List.getElem_toArray, List.getElem_cons_succ, List.getElem_cons_zero, List.setIfInBounds_toArray, List.set_cons_zero, List.set_cons_succ]
          refine reg_step hR 7 (by kernel_rfl) rfl fun K hK => ?_
          try simp only [Act.put, List.getElem_toArray, List.getElem_cons_succ, List.getElem_cons_zero, List.setIfInBounds_toArray, List.set_cons_zero, List.set_cons_succ]
          rw [if_pos (by rfl)]
          refine wp_store_bk 40 _ _ rfl q rfl (cs64 (wd (b % LL))) z40 rfl Hq.out (wd_info _) (wd_zlen _) (cs64_one _) ?_
          refine hK.out _ _ trivial ?_
          clear hK K
          have HX := Lib.hid (HX.out.other (show w.heap.size ≠ q by omega) (cs64 (wd (b % LL))).toArray)
          have HY := Lib.hid (HY.out.other (show w.heap.size + 1 ≠ q by omega) (cs64 (wd (b % LL))).toArray)
          have HR := Lib.hid (HR.out.other (show w.heap.size + 1 + 1 ≠ q by omega) (cs64 (wd (b % LL))).toArray)
          have Hp := Lib.hid (Hp.out.other (show p ≠ q by omega) (cs64 (wd (b % LL))).toArray)
          have Hq := Lib.hid (Hq.out.setRow (cs64 (wd (b % LL))))
          have HB := Lib.hid (bl_setRow HB.out (show w.heap.size ≤ q by omega) (cs64 (wd (b % LL))).toArray)
          generalize hg : u5.setRow q (cs64 (wd (b % LL))).toArray = u6 at HX HY HR Hp Hq HB ⊢
          clear hg
          try simp only [Act.put, List.getElem_toArray, List.getElem_cons_succ, List.getElem_cons_zero, List.setIfInBounds_toArray, List.set_cons_zero, List.set_cons_succ]
          refine reg_done (by kernel_rfl) ?_ _
          exact ⟨rfl, p, q, rfl, by omega, by omega, by omega, by omega, by omega, Hp, Hq, HR, HB⟩
      · refine ⟨_, rfl, fun K hK => ?_⟩
        try simp only [Act.put, List.getElem_toArray, List.getElem_cons_succ, List.getElem_cons_zero, List.setIfInBounds_toArray, List.set_cons_zero, List.set_cons_succ]
        rw [if_pos (by rfl)]
        refine wp_alloc_z 40 rfl z40 zero40 ?_
        refine hK.out _ _ trivial ?_
        clear hK K
        have hnHXq : w.heap.size ≠ u1.heap.size := by have := HX.out.lt; omega
        have hnHYq : w.heap.size + 1 ≠ u1.heap.size := by have := HY.out.lt; omega
        have hnHRq : w.heap.size + 1 + 1 ≠ u1.heap.size := by have := HR.out.lt; omega
        have Hq := Lib.hid (Bk.new u1 z40 40)
        have HX := Lib.hid (HX.out.old (.cells z40.toArray 40))
        have HY := Lib.hid (HY.out.old (.cells z40.toArray 40))
        have HR := Lib.hid (HR.out.old (.cells z40.toArray 40))
        have hlq : w.heap.size ≤ u1.heap.size := HB.out.size
        have HB := Lib.hid (bl_alloc HB.out (.cells z40.toArray 40))
        generalize hg : u1.alloc (.cells z40.toArray 40) = u2 at Hq HX HY HR HB ⊢
        clear hg
        generalize hg : u1.heap.size = q at *
        clear hg
        try simp only [Act.put, List.getElem_toArray, List.getElem_cons_succ, List.getElem_cons_zero, List.setIfInBounds_toArray, List.set_cons_zero, List.set_cons_succ]
        refine reg_fork (rs := [3, 4]) hR (by kernel_rfl) (by simp) ?_
        intro i hi; simp only [List.mem_cons, List.not_mem_nil, or_false] at hi
        rcases hi with rfl | rfl
        · refine ⟨_, rfl, fun K hK => ?_⟩
          try simp only [Act.put, List.getElem_toArray, List.getElem_cons_succ, List.getElem_cons_zero, List.setIfInBounds_toArray, List.set_cons_zero, List.set_cons_succ]
          rw [if_pos (by rfl)]
          go_simp
          refine (rest_blk b hb (w.heap.size + 1) _ HY.out).mono ?_; rintro e u3 ⟨rfl, hb⟩
          refine hK.out _ _ trivial ?_
          clear hK K
          have HX := Lib.hid (HX.out.keep hb)
          have HY := Lib.hid (HY.out.keep hb)
          have HR := Lib.hid (HR.out.keep hb)
          have Hq := Lib.hid (Hq.out.keep hb)
          have HB := Lib.hid (bl_call HB.out hb)
          clear hb
          try simp only [Act.put, List.getElem_toArray, List.getElem_cons_succ, List.getElem_cons_zero, List.setIfInBounds_toArray, List.set_cons_zero, List.set_cons_succ]
          refine reg_step hR 4 (by kernel_rfl) rfl fun K hK => ?_
          try simp only [Act.put, List.getElem_toArray, List.getElem_cons_succ, List.getElem_cons_zero, List.setIfInBounds_toArray, List.set_cons_zero, List.set_cons_succ]
          rw [if_pos (by rfl)]
          refine wp_alloc_z 40 rfl z40 zero40 ?_
          refine hK.out _ _ trivial ?_
          clear hK K
          have hnHXp : w.heap.size ≠ u3.heap.size := by have := HX.out.lt; omega
          have hnHYp : w.heap.size + 1 ≠ u3.heap.size := by have := HY.out.lt; omega
          have hnHRp : w.heap.size + 1 + 1 ≠ u3.heap.size := by have := HR.out.lt; omega
          have hnHqp : q ≠ u3.heap.size := by have := Hq.out.lt; omega
          have Hp := Lib.hid (Bk.new u3 z40 40)
          have HX := Lib.hid (HX.out.old (.cells z40.toArray 40))
          have HY := Lib.hid (HY.out.old (.cells z40.toArray 40))
          have HR := Lib.hid (HR.out.old (.cells z40.toArray 40))
          have Hq := Lib.hid (Hq.out.old (.cells z40.toArray 40))
          have hlp : w.heap.size ≤ u3.heap.size := HB.out.size
          have HB := Lib.hid (bl_alloc HB.out (.cells z40.toArray 40))
          generalize hg : u3.alloc (.cells z40.toArray 40) = u4 at Hp HX HY HR Hq HB ⊢
          clear hg
          generalize hg : u3.heap.size = p at *
          clear hg
          try simp only [Act.put, List.getElem_toArray, List.getElem_cons_succ, List.getElem_cons_zero, List.setIfInBounds_toArray, List.set_cons_zero, List.set_cons_succ]
          refine reg_step hR 6 (by kernel_rfl) rfl fun K hK => ?_
          try simp only [Act.put, List.getElem_toArray, List.getElem_cons_succ, List.getElem_cons_zero, List.setIfInBounds_toArray, List.set_cons_zero, List.set_cons_succ]
          rw [if_pos (by rfl)]
          refine wp_store_bk 40 _ _ rfl p rfl (cs64 (wd (a % LL))) z40 rfl Hp.out (wd_info _) (wd_zlen _) (cs64_one _) ?_
          refine hK.out _ _ trivial ?_
          clear hK K
          have HX := Lib.hid (HX.out.other (show w.heap.size ≠ p by omega) (cs64 (wd (a % LL))).toArray)
          have HY := Lib.hid (HY.out.other (show w.heap.size + 1 ≠ p by omega) (cs64 (wd (a % LL))).toArray)
          have HR := Lib.hid (HR.out.other (show w.heap.size + 1 + 1 ≠ p by omega) (cs64 (wd (a % LL))).toArray)
          have Hq := Lib.hid (Hq.out.other (show q ≠ p by omega) (cs64 (wd (a % LL))).toArray)
          have Hp := Lib.hid (Hp.out.setRow (cs64 (wd (a % LL))))
          have HB := Lib.hid (bl_setRow HB.out (show w.heap.size ≤ p by omega) (cs64 (wd (a % LL))).toArray)
          generalize hg : u4.setRow p (cs64 (wd (a % LL))).toArray = u5 at HX HY HR Hq Hp HB ⊢
          clear hg
          try simp only [Act.put, List.getElem_toArray, List.getElem_cons_succ, List.getElem_cons_zero, List.setIfInBounds_toArray, List.set_cons_zero, List.set_cons_succ]
          refine reg_step hR 7 (by kernel_rfl) rfl fun K hK => ?_
          try simp only [Act.put, List.getElem_toArray, List.getElem_cons_succ, List.getElem_cons_zero, List.setIfInBounds_toArray, List.set_cons_zero, List.set_cons_succ]
          rw [if_pos (by rfl)]
          refine wp_store_bk 40 _ _ rfl q rfl (cs64 (wd (b % LL))) z40 rfl Hq.out (wd_info _) (wd_zlen _) (cs64_one _) ?_
          refine hK.out _ _ trivial ?_
          clear hK K
          have HX := Lib.hid (HX.out.other (show w.heap.size ≠ q by omega) (cs64 (wd (b % LL))).toArray)
          have HY := Lib.hid (HY.out.other (show w.heap.size + 1 ≠ q by omega) (cs64 (wd (b % LL))).toArray)
          have HR := Lib.hid (HR.out.other (show w.heap.size + 1 + 1 ≠ q by omega) (cs64 (wd (b % LL))).toArray)
          have Hq := Lib.hid (Hq.out.setRow (cs64 (wd (b % LL))))
          have Hp := Lib.hid (Hp.out.other (show p ≠ q by omega) (cs64 (wd (b % LL))).toArray)
          have HB := Lib.hid (bl_setRow HB.out (show w.heap.size ≤ q by omega) (cs64 (wd (b % LL))).toArray)
          generalize hg : u5.setRow q (cs64 (wd (b % LL))).toArray = u6 at HX HY HR Hq Hp HB ⊢
          clear hg
          try simp only [Act.put, List.getElem_toArray, List.getElem_cons_succ, List.getElem_cons_zero, List.setIfInBounds_toArray, List.set_cons_zero, List.set_cons_succ]
          refine reg_done (by kernel_rfl) ?_ _
          exact ⟨rfl, p, q, rfl, by omega, by omega, by omega, by omega, by omega, Hp, Hq, HR, HB⟩
        · refine ⟨_, rfl, fun K hK => ?_⟩
          try simp only [Act.put, List.getElem_toArray, List.getElem_cons_succ, List.getElem_cons_zero, List.setIfInBounds_toArray, List.set_cons_zero, List.set_cons_succ]
          rw [if_pos (by rfl)]
          refine wp_alloc_z 40 rfl z40 zero40 ?_
          refine hK.out _ _ trivial ?_
          clear hK K
          have hnHXp : w.heap.size ≠ u2.heap.size := by have := HX.out.lt; omega
          have hnHYp : w.heap.size + 1 ≠ u2.heap.size := by have := HY.out.lt; omega
          have hnHRp : w.heap.size + 1 + 1 ≠ u2.heap.size := by have := HR.out.lt; omega
          have hnHqp : q ≠ u2.heap.size := by have := Hq.out.lt; omega
          have Hp := Lib.hid (Bk.new u2 z40 40)
          have HX := Lib.hid (HX.out.old (.cells z40.toArray 40))
          have HY := Lib.hid (HY.out.old (.cells z40.toArray 40))
          have HR := Lib.hid (HR.out.old (.cells z40.toArray 40))
          have Hq := Lib.hid (Hq.out.old (.cells z40.toArray 40))
          have hlp : w.heap.size ≤ u2.heap.size := HB.out.size
          have HB := Lib.hid (bl_alloc HB.out (.cells z40.toArray 40))
          generalize hg : u2.alloc (.cells z40.toArray 40) = u3 at Hp HX HY HR Hq HB ⊢
          clear hg
          generalize hg : u2.heap.size = p at *
          clear hg
          try simp only [Act.put, List.getElem_toArray, List.getElem_cons_succ, List.getElem_cons_zero, List.setIfInBounds_toArray, List.set_cons_zero, List.set_cons_succ]
          refine reg_step hR 3 (by kernel_rfl) rfl fun K hK => ?_
          try simp only [Act.put, List.getElem_toArray, List.getElem_cons_succ, List.getElem_cons_zero, List.setIfInBounds_toArray, List.set_cons_zero, List.set_cons_succ]
          rw [if_pos (by rfl)]
          go_simp
          refine (rest_blk b hb (w.heap.size + 1) _ HY.out).mono ?_; rintro e u4 ⟨rfl, hb⟩
          refine hK.out _ _ trivial ?_
          clear hK K
          have HX := Lib.hid (HX.out.keep hb)
          have HY := Lib.hid (HY.out.keep hb)
          have HR := Lib.hid (HR.out.keep hb)
          have Hq := Lib.hid (Hq.out.keep hb)
          have Hp := Lib.hid (Hp.out.keep hb)
          have HB := Lib.hid (bl_call HB.out hb)
          clear hb
          try simp only [Act.put, List.getElem_toArray, List.getElem_cons_succ, List.getElem_cons_zero, List.setIfInBounds_toArray, List.set_cons_zero, List.set_cons_succ]
          refine reg_step hR 6 (by kernel_rfl) rfl fun K hK => ?_
          try simp only [Act.put, List.getElem_toArray, List.getElem_cons_succ, List.getElem_cons_zero, List.setIfInBounds_toArray, List.set_cons_zero, List.set_cons_succ]
          rw [if_pos (by rfl)]
          refine wp_store_bk 40 _ _ rfl p rfl (cs64 (wd (a % LL))) z40 rfl Hp.out (wd_info _) (wd_zlen _) (cs64_one _) ?_
          refine hK.out _ _ trivial ?_
          clear hK K
          have HX := Lib.hid (HX.out.other (show w.heap.size ≠ p by omega) (cs64 (wd (a % LL))).toArray)
          have HY := Lib.hid (HY.out.other (show w.heap.size + 1 ≠ p by omega) (cs64 (wd (a % LL))).toArray)
          have HR := Lib.hid (HR.out.other (show w.heap.size + 1 + 1 ≠ p by omega) (cs64 (wd (a % LL))).toArray)
          have Hq := Lib.hid (Hq.out.other (show q ≠ p by omega) (cs64 (wd (a % LL))).toArray)
          have Hp := Lib.hid (Hp.out.setRow (cs64 (wd (a % LL))))
          have HB := Lib.hid (bl_setRow HB.out (show w.heap.size ≤ p by omega) (cs64 (wd (a % LL))).toArray)
          generalize hg : u4.setRow p (cs64 (wd (a % LL))).toArray = u5 at HX HY HR Hq Hp HB ⊢
          clear hg
          try simp only [Act.put, List.getElem_toArray, List.getElem_cons_succ, List.getElem_cons_zero, List.setIfInBounds_toArray, List.set_cons_zero, List.set_cons_succ]
          refine reg_step hR 7 (by kernel_rfl) rfl fun K hK => ?_
          try simp only [Act.put, List.getElem_toArray, List.getElem_cons_succ, List.getElem_cons_zero, List.setIfInBounds_toArray, List.set_cons_zero, List.set_cons_succ]
          rw [if_pos (by rfl)]
          refine wp_store_bk 40 _ _ rfl q rfl (cs64 (wd (b % LL))) z40 rfl Hq.out (wd_info _) (wd_zlen _) (cs64_one _) ?_
          refine hK.out _ _ trivial ?_
          clear hK K
          have HX := Lib.hid (HX.out.other (show w.heap.size ≠ q by omega) (cs64 (wd (b % LL))).toArray)
          have HY := Lib.hid (HY.out.other (show w.heap.size + 1 ≠ q by omega) (cs64 (wd (b % LL))).toArray)
          have HR := Lib.hid (HR.out.other (show w.heap.size + 1 + 1 ≠ q by omega) (cs64 (wd (b % LL))).toArray)
          have Hq := Lib.hid (Hq.out.setRow (cs64 (wd (b % LL))))
          have Hp := Lib.hid (Hp.out.other (show p ≠ q by omega) (cs64 (wd (b % LL))).toArray)
          have HB := Lib.hid (bl_setRow HB.out (show w.heap.size ≤ q by omega) (cs64 (wd (b % LL))).toArray)
          generalize hg : u5.setRow q (cs64 (wd (b % LL))).toArray = u6 at HX HY HR Hq Hp HB ⊢
          clear hg
          try simp only [Act.put, List.getElem_toArray, List.getElem_cons_succ, List.getElem_cons_zero, List.setIfInBounds_toArray, List.set_cons_zero, List.set_cons_succ]
          refine reg_done (by kernel_rfl) ?_ _
          exact ⟨rfl, p, q, rfl, by omega, by omega, by omega, by omega, by omega, Hp, Hq, HR, HB⟩
    · refine ⟨_, rfl, fun K hK => ?_⟩
      try simp only [Act.put, List.getElem_toArray, List.getElem_cons_succ, List.getElem_cons_zero, List.setIfInBounds_toArray, List.set_cons_zero, List.set_cons_succ]
      rw [if_pos (by rfl)]
      refine wp_alloc_z 40 rfl z40 zero40 ?_
      refine hK.out _ _ trivial ?_
      clear hK K
      have hnHXp : w.heap.size ≠ u0.heap.size := by have := HX.out.lt; omega
      have hnHYp : w.heap.size + 1 ≠ u0.heap.size := by have := HY.out.lt; omega
      have hnHRp : w.heap.size + 1 + 1 ≠ u0.heap.size := by have := HR.out.lt; omega
      have Hp := Lib.hid (Bk.new u0 z40 40)
      have HX := Lib.hid (HX.out.old (.cells z40.toArray 40))
      have HY := Lib.hid (HY.out.old (.cells z40.toArray 40))
      have HR := Lib.hid (HR.out.old (.cells z40.toArray 40))
      have hlp : w.heap.size ≤ u0.heap.size := HB.out.size
      have HB := Lib.hid (bl_alloc HB.out (.cells z40.toArray 40))
      generalize hg : u0.alloc (.cells z40.toArray 40) = u1 at Hp HX HY HR HB ⊢
      clear hg
      generalize hg : u0.heap.size = p at *
      clear hg
      try simp only [Act.put, List.getElem_toArray, List.getElem_cons_succ, List.getElem_cons_zero, List.setIfInBounds_toArray, List.set_cons_zero, List.set_cons_succ]
      refine reg_fork (rs := [1, 5]) hR (by kernel_rfl) (by simp) ?_
      intro i hi; simp only [List.mem_cons, List.not_mem_nil, or_false] at hi
      rcases hi with rfl | rfl
      · refine ⟨_, rfl, fun K hK => ?_⟩
        try simp only [Act.put, List.getElem_toArray, List.getElem_cons_succ, List.getElem_cons_zero, List.setIfInBounds_toArray, List.set_cons_zero, List.set_cons_succ]
        rw [if_pos (by rfl)]
        go_simp
        refine (rest_blk a ha w.heap.size _ HX.out).mono ?_; rintro e u2 ⟨rfl, hb⟩
        refine hK.out _ _ trivial ?_
        clear hK K
        have HX := Lib.hid (HX.out.keep hb)
        have HY := Lib.hid (HY.out.keep hb)
        have HR := Lib.hid (HR.out.keep hb)
        have Hp := Lib.hid (Hp.out.keep hb)
        have HB := Lib.hid (bl_call HB.out hb)
        clear hb
        try simp only [Act.put, List.getElem_toArray, List.getElem_cons_succ, List.getElem_cons_zero, List.setIfInBounds_toArray, List.set_cons_zero, List.set_cons_succ]
        refine reg_fork (rs := [3, 5]) hR (by kernel_rfl) (by simp) ?_
        intro i hi; simp only [List.mem_cons, List.not_mem_nil, or_false] at hi
        rcases hi with rfl | rfl
        · refine ⟨_, rfl, fun K hK => ?_⟩
          try simp only [Act.put, List.getElem_toArray, List.getElem_cons_succ, List.getElem_cons_zero, List.setIfInBounds_toArray, List.set_cons_zero, List.set_cons_succ]
          rw [if_pos (by rfl)]
          go_simp
          refine (rest_blk b hb (w.heap.size + 1) _ HY.out).mono ?_; rintro e u3 ⟨rfl, hb⟩
          refine hK.out _ _ trivial ?_
          clear hK K
          have HX := Lib.hid (HX.out.keep hb)
          have HY := Lib.hid (HY.out.keep hb)
          have HR := Lib.hid (HR.out.keep hb)
          have Hp := Lib.hid (Hp.out.keep hb)
          have HB := Lib.hid (bl_call HB.out hb)
          clear hb
          try simp only [Act.put, List.getElem_toArray, List.getElem_cons_succ, List.getElem_cons_zero, List.setIfInBounds_toArray, List.set_cons_zero, List.set_cons_succ]
          refine reg_step hR 5 (by kernel_rfl) rfl fun K hK => ?_
          try simp only [Act.put, List.getElem_toArray, List.getElem_cons_succ, List.getElem_cons_zero, List.setIfInBounds_toArray, List.set_cons_zero, List.set_cons_succ]
          rw [if_pos (by rfl)]
          refine wp_alloc_z 40 rfl z40 zero40 ?_
          refine hK.out _ _ trivial ?_
          clear hK K
          have hnHXq : w.heap.size ≠ u3.heap.size := by have := HX.out.lt; omega
          have hnHYq : w.heap.size + 1 ≠ u3.heap.size := by have := HY.out.lt; omega
          have hnHRq : w.heap.size + 1 + 1 ≠ u3.heap.size := by have := HR.out.lt; omega
          have hnHpq : p ≠ u3.heap.size := by have := Hp.out.lt; omega
          have Hq := Lib.hid (Bk.new u3 z40 40)
          have HX := Lib.hid (HX.out.old (.cells z40.toArray 40))
          have HY := Lib.hid (HY.out.old (.cells z40.toArray 40))
          have HR := Lib.hid (HR.out.old (.cells z40.toArray 40))
          have Hp := Lib.hid (Hp.out.old (.cells z40.toArray 40))
          have hlq : w.heap.size ≤ u3.heap.size := HB.out.size
          have HB := Lib.hid (bl_alloc HB.out (.cells z40.toArray 40))
          generalize hg : u3.alloc (.cells z40.toArray 40) = u4 at Hq HX HY HR Hp HB ⊢
          clear hg
          generalize hg : u3.heap.size = q at *
          clear hg
          try simp only [Act.put, List.getElem_toArray, List.getElem_cons_succ, List.getElem_cons_zero, List.setIfInBounds_toArray, List.set_cons_zero, List.set_cons_succ]
          refine reg_step hR 6 (by kernel_rfl) rfl fun K hK => ?_
          try simp only [Act.put, List.getElem_toArray, List.getElem_cons_succ, List.getElem_cons_zero, List.setIfInBounds_toArray, List.set_cons_zero, List.set_cons_succ]
          rw [if_pos (by rfl)]
          refine wp_store_bk 40 _ _ rfl p rfl (cs64 (wd (a % LL))) z40 rfl Hp.out (wd_info _) (wd_zlen _) (cs64_one _) ?_
          refine hK.out _ _ trivial ?_
          clear hK K
          have HX := Lib.hid (HX.out.other (show w.heap.size ≠ p by omega) (cs64 (wd (a % LL))).toArray)
          have HY := Lib.hid (HY.out.other (show w.heap.size + 1 ≠ p by omega) (cs64 (wd (a % LL))).toArray)
          have HR := Lib.hid (HR.out.other (show w.heap.size + 1 + 1 ≠ p by omega) (cs64 (wd (a % LL))).toArray)
          have Hp := Lib.hid (Hp.out.setRow (cs64 (wd (a % LL))))
          have Hq := Lib.hid (Hq.out.other (show q ≠ p by omega) (cs64 (wd (a % LL))).toArray)
          have HB := Lib.hid (bl_setRow HB.out (show w.heap.size ≤ p by omega) (cs64 (wd (a % LL))).toArray)
          generalize hg : u4.setRow p (cs64 (wd (a % LL))).toArray = u5 at HX HY HR Hp Hq HB ⊢
          clear hg
          try simp only [Act.put, List.getElem_toArray, List.getElem_cons_succ, List.getElem_cons_zero, List.setIfInBounds_toArray, List.set_cons_zero, List.set_cons_succ]
          refine reg_step hR 7 (by kernel_rfl) rfl fun K hK => ?_
          try simp only [Act.put, List.getElem_toArray, List.getElem_cons_succ, List.getElem_cons_zero, List.setIfInBounds_toArray, List.set_cons_zero, List.set_cons_succ]
          rw [if_pos (by rfl)]
          refine wp_store_bk 40 _ _ rfl q rfl (cs64 (wd (b % LL))) z40 rfl Hq.out (wd_info _) (wd_zlen _) (cs64_one _) ?_
          refine hK.out _ _ trivial ?_
          clear hK K
          have HX := Lib.hid (HX.out.other (show w.heap.size ≠ q by omega) (cs64 (wd (b % LL))).toArray)
          have HY := Lib.hid (HY.out.other (show w.heap.size + 1 ≠ q by omega) (cs64 (wd (b % LL))).toArray)
          have HR := Lib.hid (HR.out.other (show w.heap.size + 1 + 1 ≠ q by omega) (cs64 (wd (b % LL))).toArray)
          have Hp := Lib.hid (Hp.out.other (show p ≠ q by omega) (cs64 (wd (b % LL))).toArray)
          have Hq := Lib.hid (Hq.out.setRow (cs64 (wd (b % LL))))
          have HB := Lib.hid (bl_setRow HB.out (show w.heap.size ≤ q by omega) (cs64 (wd (b % LL))).toArray)
          generalize hg : u5.setRow q (cs64 (wd (b % LL))).toArray = u6 at HX HY HR Hp Hq HB ⊢
          clear hg
          try simp only [Act.put, List.getElem_toArray, List.getElem_cons_succ, List.getElem_cons_zero, List.setIfInBounds_toArray, List.set_cons_zero, List.set_cons_succ]
          refine reg_done (by kernel_rfl) ?_ _
          exact ⟨rfl, p, q, rfl, by omega, by omega, by omega, by omega, by omega, Hp, Hq, HR, HB⟩
        · refine ⟨_, rfl, fun K hK => ?_⟩
          try simp only [Act.put, List.getElem_toArray, List.getElem_cons_succ, List.getElem_cons_zero, List.setIfInBounds_toArray, List.set_cons_zero, List.set_cons_succ]
          rw [if_pos (by rfl)]
          refine wp_alloc_z 40 rfl z40 zero40 ?_
          refine hK.out _ _ trivial ?_
          clear hK K
          have hnHXq : w.heap.size ≠ u2.heap.size := by have := HX.out.lt; omega
          have hnHYq : w.heap.size + 1 ≠ u2.heap.size := by have := HY.out.lt; omega
          have hnHRq : w.heap.size + 1 + 1 ≠ u2.heap.size := by have := HR.out.lt; omega
          have hnHpq : p ≠ u2.heap.size := by have := Hp.out.lt; omega
          have Hq := Lib.hid (Bk.new u2 z40 40)
          have HX := Lib.hid (HX.out.old (.cells z40.toArray 40))
          have HY := Lib.hid (HY.out.old (.cells z40.toArray 40))
          have HR := Lib.hid (HR.out.old (.cells z40.toArray 40))
          have Hp := Lib.hid (Hp.out.old (.cells z40.toArray 40))
          have hlq : w.heap.size ≤ u2.heap.size := HB.out.size
          have HB := Lib.hid (bl_alloc HB.out (.cells z40.toArray 40))
          generalize hg : u2.alloc (.cells z40.toArray 40) = u3 at Hq HX HY HR Hp HB ⊢
          clear hg
          generalize hg : u2.heap.size = q at *
          clear hg
          try simp only [Act.put, List.getElem_toArray, List.getElem_cons_succ, List.getElem_cons_zero, List.setIfInBounds_toArray, List.set_cons_zero, List.set_cons_succ]
          refine reg_step hR 3 (by kernel_rfl) rfl fun K hK => ?_
          try simp only [Act.put, List.getElem_toArray, List.getElem_cons_succ, List.getElem_cons_zero, List.setIfInBounds_toArray, List.set_cons_zero, List.set_cons_succ]
          rw [if_pos (by rfl)]
          go_simp
          refine (rest_blk b hb (w.heap.size + 1) _ HY.out).mono ?_; rintro e u4 ⟨rfl, hb⟩
          refine hK.out _ _ trivial ?_
          clear hK K
          have HX := Lib.hid (HX.out.keep hb)
          have HY := Lib.hid (HY.out.keep hb)
          have HR := Lib.hid (HR.out.keep hb)
          have Hp := Lib.hid (Hp.out.keep hb)
          have Hq := Lib.hid (Hq.out.keep hb)
          have HB := Lib.hid (bl_call HB.out hb)
          clear hb
          try simp only [Act.put, List.getElem_toArray, List.getElem_cons_succ, List.getElem_cons_zero, List.setIfInBounds_toArray, List.set_cons_zero, List.set_cons_succ]
          refine reg_step hR 6 (by kernel_rfl) rfl fun K hK => ?_
          try simp only [Act.put, List.getElem_toArray, List.getElem_cons_succ, List.getElem_cons_zero, List.setIfInBounds_toArray, List.set_cons_zero, List.set_cons_succ]
          rw [if_pos (by rfl)]
          refine wp_store_bk 40 _ _ rfl p rfl (cs64 (wd (a % LL))) z40 rfl Hp.out (wd_info _) (wd_zlen _) (cs64_one _) ?_
          refine hK.out _ _ trivial ?_
          clear hK K
          have HX := Lib.hid (HX.out.other (show w.heap.size ≠ p by omega) (cs64 (wd (a % LL))).toArray)
          have HY := Lib.hid (HY.out.other (show w.heap.size + 1 ≠ p by omega) (cs64 (wd (a % LL))).toArray)
          have HR := Lib.hid (HR.out.other (show w.heap.size + 1 + 1 ≠ p by omega) (cs64 (wd (a % LL))).toArray)
          have Hp := Lib.hid (Hp.out.setRow (cs64 (wd (a % LL))))
          have Hq := Lib.hid (Hq.out.other (show q ≠ p by omega) (cs64 (wd (a % LL))).toArray)
          have HB := Lib.hid (bl_setRow HB.out (show w.heap.size ≤ p by omega) (cs64 (wd (a % LL))).toArray)
          generalize hg : u4.setRow p (cs64 (wd (a % LL))).toArray = u5 at HX HY HR Hp Hq HB ⊢
          clear hg
          try simp only [Act.put, List.getElem_toArray, List.getElem_cons_succ, List.getElem_cons_zero, List.setIfInBounds_toArray, List.set_cons_zero, List.set_cons_succ]
          refine reg_step hR 7 (by kernel_rfl) rfl fun K hK => ?_
          try simp only [Act.put, List.getElem_toArray, List.getElem_cons_succ, List.getElem_cons_zero, List.setIfInBounds_toArray, List.set_cons_zero, List.set_cons_succ]
          rw [if_pos (by rfl)]
          refine wp_store_bk 40 _ _ rfl q rfl (cs64 (wd (b % LL))) z40 rfl Hq.out (wd_info _) (wd_zlen _) (cs64_one _) ?_
          refine hK.out _ _ trivial ?_
          clear hK K
          have HX := Lib.hid (HX.out.other (show w.heap.size ≠ q by omega) (cs64 (wd (b % LL))).toArray)
          have HY := Lib.hid (HY.out.other (show w.heap.size + 1 ≠ q by omega) (cs64 (wd (b % LL))).toArray)
          have HR := Lib.hid (HR.out.other (show w.heap.size + 1 + 1 ≠ q by omega) (cs64 (wd (b % LL))).toArray)
          have Hp := Lib.hid (Hp.out.other (show p ≠ q by omega) (cs64 (wd (b % LL))).toArray)
          have Hq := Lib.hid (Hq.out.setRow (cs64 (wd (b % LL))))
          have HB := Lib.hid (bl_setRow HB.out (show w.heap.size ≤ q by omega) (cs64 (wd (b % LL))).toArray)
          generalize hg : u5.setRow q (cs64 (wd (b % LL))).toArray = u6 at HX HY HR Hp Hq HB ⊢
          clear hg
          try simp only [Act.put, List.getElem_toArray, List.getElem_cons_succ, List.getElem_cons_zero, List.setIfInBounds_toArray, List.set_cons_zero, List.set_cons_succ]
          refine reg_done (by kernel_rfl) ?_ _
          exact ⟨rfl, p, q, rfl, by omega, by omega, by omega, by omega, by omega, Hp, Hq, HR, HB⟩
      · refine ⟨_, rfl, fun K hK => ?_⟩
        try simp only [Act.put, List.getElem_toArray, List.getElem_cons_succ, List.getElem_cons_zero, List.setIfInBounds_toArray, List.set_cons_zero, List.set_cons_succ]
        rw [if_pos (by rfl)]
        refine wp_alloc_z 40 rfl z40 zero40 ?_
        refine hK.out _ _ trivial ?_
        clear hK K
        have hnHXq : w.heap.size ≠ u1.heap.size := by have := HX.out.lt; omega
        have hnHYq : w.heap.size + 1 ≠ u1.heap.size := by have := HY.out.lt; omega
        have hnHRq : w.heap.size + 1 + 1 ≠ u1.heap.size := by have := HR.out.lt; omega
        have hnHpq : p ≠ u1.heap.size := by have := Hp.out.lt; omega
        have Hq := Lib.hid (Bk.new u1 z40 40)
        have HX := Lib.hid (HX.out.old (.cells z40.toArray 40))
        have HY := Lib.hid (HY.out.old (.cells z40.toArray 40))
        have HR := Lib.hid (HR.out.old (.cells z40.toArray 40))
        have Hp := Lib.hid (Hp.out.old (.cells z40.toArray 40))
        have hlq : w.heap.size ≤ u1.heap.size := HB.out.size
        have HB := Lib.hid (bl_alloc HB.out (.cells z40.toArray 40))
        generalize hg : u1.alloc (.cells z40.toArray 40) = u2 at Hq HX HY HR Hp HB ⊢
        clear hg
        generalize hg : u1.heap.size = q at *
        clear hg
        try simp only [Act.put, List.getElem_toArray, List.getElem_cons_succ, List.getElem_cons_zero, List.setIfInBounds_toArray, List.set_cons_zero, List.set_cons_succ]
        refine reg_step hR 1 (by kernel_rfl) rfl fun K hK => ?_
        try simp only [Act.put, List.getElem_toArray, List.getElem_cons_succ, List.getElem_cons_zero, List.setIfInBounds_toArray, List.set_cons_zero, List.set_cons_succ]
        rw [if_pos (by rfl)]
        go_simp
        refine (rest_blk a ha w.heap.size _ HX.out).mono ?_; rintro e u3 ⟨rfl, hb⟩
        refine hK.out _ _ trivial ?_
        clear hK K
        have HX := Lib.hid (HX.out.keep hb)
        have HY := Lib.hid (HY.out.keep hb)
        have HR := Lib.hid (HR.out.keep hb)
        have Hp := Lib.hid (Hp.out.keep hb)
        have Hq := Lib.hid (Hq.out.keep hb)
        have HB := Lib.hid (bl_call HB.out hb)
        clear hb
        try simp only [Act.put, List.getElem_toArray, List.getElem_cons_succ, List.getElem_cons_zero, List.setIfInBounds_toArray, List.set_cons_zero, List.set_cons_succ]
        refine reg_step hR 3 (by kernel_rfl) rfl fun K hK => ?_
        try simp only [Act.put, List.getElem_toArray, List.getElem_cons_succ, List.getElem_cons_zero, List.setIfInBounds_toArray, List.set_cons_zero, List.set_cons_succ]
        rw [if_pos (by rfl)]
        go_simp
        refine (rest_blk b hb (w.heap.size + 1) _ HY.out).mono ?_; rintro e u4 ⟨rfl, hb⟩
        refine hK.out _ _ trivial ?_
        clear hK K
        have HX := Lib.hid (HX.out.keep hb)
        have HY := Lib.hid (HY.out.keep hb)
        have HR := Lib.hid (HR.out.keep hb)
        have Hp := Lib.hid (Hp.out.keep hb)
        have Hq := Lib.hid (Hq.out.keep hb)
        have HB := Lib.hid (bl_call HB.out hb)
        clear hb
        try simp only [Act.put, List.getElem_toArray, List.getElem_cons_succ, List.getElem_cons_zero, List.setIfInBounds_toArray, List.set_cons_zero, List.set_cons_succ]
        refine reg_step hR 6 (by kernel_rfl) rfl fun K hK => ?_
        try simp only [Act.put, List.getElem_toArray, List.getElem_cons_succ, List.getElem_cons_zero, List.setIfInBounds_toArray, List.set_cons_zero, List.set_cons_succ]
        rw [if_pos (by rfl)]
        refine wp_store_bk 40 _ _ rfl p rfl (cs64 (wd (a % LL))) z40 rfl Hp.out (wd_info _) (wd_zlen _) (cs64_one _) ?_
        refine hK.out _ _ trivial ?_
        clear hK K
        have HX := Lib.hid (HX.out.other (show w.heap.size ≠ p by omega) (cs64 (wd (a % LL))).toArray)
        have HY := Lib.hid (HY.out.other (show w.heap.size + 1 ≠ p by omega) (cs64 (wd (a % LL))).toArray)
        have HR := Lib.hid (HR.out.other (show w.heap.size + 1 + 1 ≠ p by omega) (cs64 (wd (a % LL))).toArray)
        have Hp := Lib.hid (Hp.out.setRow (cs64 (wd (a % LL))))
        have Hq := Lib.hid (Hq.out.other (show q ≠ p by omega) (cs64 (wd (a % LL))).toArray)
        have HB := Lib.hid (bl_setRow HB.out (show w.heap.size ≤ p by omega) (cs64 (wd (a % LL))).toArray)
        generalize hg : u4.setRow p (cs64 (wd (a % LL))).toArray = u5 at HX HY HR Hp Hq HB ⊢
        clear hg
        try simp only [Act.put, List.getElem_toArray, List.getElem_cons_succ, List.getElem_cons_zero, List.setIfInBounds_toArray, List.set_cons_zero, List.set_cons_succ]
        refine reg_step hR 7 (by kernel_rfl) rfl fun K hK => ?_
        try simp only [Act.put, List.getElem_toArray, List.getElem_cons_succ, List.getElem_cons_zero, List.setIfInBounds_toArray, List.set_cons_zero, List.set_cons_succ]
        rw [if_pos (by rfl)]
        refine wp_store_bk 40 _ _ rfl q rfl (cs64 (wd (b % LL))) z40 rfl Hq.out (wd_info _) (wd_zlen _) (cs64_one _) ?_
        refine hK.out _ _ trivial ?_
        clear hK K
        have HX := Lib.hid (HX.out.other (show w.heap.size ≠ q by omega) (cs64 (wd (b % LL))).toArray)
        have HY := Lib.hid (HY.out.other (show w.heap.size + 1 ≠ q by omega) (cs64 (wd (b % LL))).toArray)
        have HR := Lib.hid (HR.out.other (show w.heap.size + 1 + 1 ≠ q by omega) (cs64 (wd (b % LL))).toArray)
        have Hp := Lib.hid (Hp.out.other (show p ≠ q by omega) (cs64 (wd (b % LL))).toArray)
        have Hq := Lib.hid (Hq.out.setRow (cs64 (wd (b % LL))))
        have HB := Lib.hid (bl_setRow HB.out (show w.heap.size ≤ q by omega) (cs64 (wd (b % LL))).toArray)
        generalize hg : u5.setRow q (cs64 (wd (b % LL))).toArray = u6 at HX HY HR Hp Hq HB ⊢
        clear hg
        try simp only [Act.put, List.getElem_toArray, List.getElem_cons_succ, List.getElem_cons_zero, List.setIfInBounds_toArray, List.set_cons_zero, List.set_cons_succ]
        refine reg_done (by kernel_rfl) ?_ _
        exact ⟨rfl, p, q, rfl, by omega, by omega, by omega, by omega, by omega, Hp, Hq, HR, HB⟩
    · refine ⟨_, rfl, fun K hK => ?_⟩
      try simp only [Act.put, List.getElem_toArray, List.getElem_cons_succ, List.getElem_cons_zero, List.setIfInBounds_toArray, List.set_cons_zero, List.set_cons_succ]
      rw [if_pos (by rfl)]
      refine wp_alloc_z 40 rfl z40 zero40 ?_
      refine hK.out _ _ trivial ?_
      clear hK K
      have hnHXq : w.heap.size ≠ u0.heap.size := by have := HX.out.lt; omega
      have hnHYq : w.heap.size + 1 ≠ u0.heap.size := by have := HY.out.lt; omega
      have hnHRq : w.heap.size + 1 + 1 ≠ u0.heap.size := by have := HR.out.lt; omega
      have Hq := Lib.hid (Bk.new u0 z40 40)
      have HX := Lib.hid (HX.out.old (.cells z40.toArray 40))
      have HY := Lib.hid (HY.out.old (.cells z40.toArray 40))
      have HR := Lib.hid (HR.out.old (.cells z40.toArray 40))
      have hlq : w.heap.size ≤ u0.heap.size := HB.out.size
      have HB := Lib.hid (bl_alloc HB.out (.cells z40.toArray 40))
      generalize hg : u0.alloc (.cells z40.toArray 40) = u1 at Hq HX HY HR HB ⊢
      clear hg
      generalize hg : u0.heap.size = q at *
      clear hg
      try simp only [Act.put, List.getElem_toArray, List.getElem_cons_succ, List.getElem_cons_zero, List.setIfInBounds_toArray, List.set_cons_zero, List.set_cons_succ]
      refine reg_fork (rs := [1, 4]) hR (by kernel_rfl) (by simp) ?_
      intro i hi; simp only [List.mem_cons, List.not_mem_nil, or_false] at hi
      rcases hi with rfl | rfl
      · refine ⟨_, rfl, fun K hK => ?_⟩
        try simp only [Act.put, List.getElem_toArray, List.getElem_cons_succ, List.getElem_cons_zero, List.setIfInBounds_toArray, List.set_cons_zero, List.set_cons_succ]
        rw [if_pos (by rfl)]
        go_simp
        refine (rest_blk a ha w.heap.size _ HX.out).mono ?_; rintro e u2 ⟨rfl, hb⟩
        refine hK.out _ _ trivial ?_
        clear hK K
        have HX := Lib.hid (HX.out.keep hb)
        have HY := Lib.hid (HY.out.keep hb)
        have HR := Lib.hid (HR.out.keep hb)
        have Hq := Lib.hid (Hq.out.keep hb)
        have HB := Lib.hid (bl_call HB.out hb)
        clear hb
        try simp only [Act.put, List.getElem_toArray, List.getElem_cons_succ, List.getElem_cons_zero, List.setIfInBounds_toArray, List.set_cons_zero, List.set_cons_succ]
        refine reg_fork (rs := [3, 4]) hR (by kernel_rfl) (by simp) ?_
        intro i hi; simp only [List.mem_cons, List.not_mem_nil, or_false] at hi
        rcases hi with rfl | rfl
        · refine ⟨_, rfl, fun K hK => ?_⟩
          try simp only [Act.put, List.getElem_toArray, List.getElem_cons_succ, List.getElem_cons_zero, List.setIfInBounds_toArray, List.set_cons_zero, List.set_cons_succ]
          rw [if_pos (by rfl)]
          go_simp
          refine (rest_blk b hb (w.heap.size + 1) _ HY.out).mono ?_; rintro e u3 ⟨rfl, hb⟩
          refine hK.out _ _ trivial ?_
          clear hK K
          have HX := Lib.hid (HX.out.keep hb)
          have HY := Lib.hid (HY.out.keep hb)
          have HR := Lib.hid (HR.out.keep hb)
          have Hq := Lib.hid (Hq.out.keep hb)
          have HB := Lib.hid (bl_call HB.out hb)
          clear hb
          try simp only [Act.put, List.getElem_toArray, List.getElem_cons_succ, List.getElem_cons_zero, List.setIfInBounds_toArray, List.set_cons_zero, List.set_cons_succ]
          refine reg_step hR 4 (by kernel_rfl) rfl fun K hK => ?_
          try simp only [Act.put, List.getElem_toArray, List.getElem_cons_succ, List.getElem_cons_zero, List.setIfInBounds_toArray, List.set_cons_zero, List.set_cons_succ]
          rw [if_pos (by rfl)]
          refine wp_alloc_z 40 rfl z40 zero40 ?_
          refine hK.out _ _ trivial ?_
          clear hK K
          have hnHXp : w.heap.size ≠ u3.heap.size := by have := HX.out.lt; omega
          have hnHYp : w.heap.size + 1 ≠ u3.heap.size := by have := HY.out.lt; omega
          have hnHRp : w.heap.size + 1 + 1 ≠ u3.heap.size := by have := HR.out.lt; omega
          have hnHqp : q ≠ u3.heap.size := by have := Hq.out.lt; omega
          have Hp := Lib.hid (Bk.new u3 z40 40)
          have HX := Lib.hid (HX.out.old (.cells z40.toArray 40))
          have HY := Lib.hid (HY.out.old (.cells z40.toArray 40))
          have HR := Lib.hid (HR.out.old (.cells z40.toArray 40))
          have Hq := Lib.hid (Hq.out.old (.cells z40.toArray 40))
          have hlp : w.heap.size ≤ u3.heap.size := HB.out.size
          have HB := Lib.hid (bl_alloc HB.out (.cells z40.toArray 40))
          generalize hg : u3.alloc (.cells z40.toArray 40) = u4 at Hp HX HY HR Hq HB ⊢
          clear hg
          generalize hg : u3.heap.size = p at *
          clear hg
          try simp only [Act.put, List.getElem_toArray, List.getElem_cons_succ, List.getElem_cons_zero, List.setIfInBounds_toArray, List.set_cons_zero, List.set_cons_succ]
          refine reg_step hR 6 (by kernel_rfl) rfl fun K hK => ?_
          try simp only [Act.put, List.getElem_toArray, List.getElem_cons_succ, List.getElem_cons_zero, List.setIfInBounds_toArray, List.set_cons_zero, List.set_cons_succ]
          rw [if_pos (by rfl)]
          refine wp_store_bk 40 _ _ rfl p rfl (cs64 (wd (a % LL))) z40 rfl Hp.out (wd_info _) (wd_zlen _) (cs64_one _) ?_
          refine hK.out _ _ trivial ?_
          clear hK K
          have HX := Lib.hid (HX.out.other (show w.heap.size ≠ p by omega) (cs64 (wd (a % LL))).toArray)
          have HY := Lib.hid (HY.out.other (show w.heap.size + 1 ≠ p by omega) (cs64 (wd (a % LL))).toArray)
          have HR := Lib.hid (HR.out.other (show w.heap.size + 1 + 1 ≠ p by omega) (cs64 (wd (a % LL))).toArray)
          have Hq := Lib.hid (Hq.out.other (show q ≠ p by omega) (cs64 (wd (a % LL))).toArray)
          have Hp := Lib.hid (Hp.out.setRow (cs64 (wd (a % LL))))
          have HB := Lib.hid (bl_setRow HB.out (show w.heap.size ≤ p by omega) (cs64 (wd (a % LL))).toArray)
          generalize hg : u4.setRow p (cs64 (wd (a % LL))).toArray = u5 at HX HY HR Hq Hp HB ⊢
          clear hg
          try simp only [Act.put, List.getElem_toArray, List.getElem_cons_succ, List.getElem_cons_zero, List.setIfInBounds_toArray, List.set_cons_zero, List.set_cons_succ]
          refine reg_step hR 7 (by kernel_rfl) rfl fun K hK => ?_
          try simp only [Act.put, List.getElem_toArray, List.getElem_cons_succ, List.getElem_cons_zero, List.setIfInBounds_toArray, List.set_cons_zero, List.set_cons_succ]
          rw [if_pos (by rfl)]
          refine wp_store_bk 40 _ _ rfl q rfl (cs64 (wd (b % LL))) z40 rfl Hq.out (wd_info _) (wd_zlen _) (cs64_one _) ?_
          refine hK.out _ _ trivial ?_
          clear hK K
          have HX := Lib.hid (HX.out.other (show w.heap.size ≠ q by omega) (cs64 (wd (b % LL))).toArray)
          have HY := Lib.hid (HY.out.other (show w.heap.size + 1 ≠ q by omega) (cs64 (wd (b % LL))).toArray)
          have HR := Lib.hid (HR.out.other (show w.heap.size + 1 + 1 ≠ q by omega) (cs64 (wd (b % LL))).toArray)
          have Hq := Lib.hid (Hq.out.setRow (cs64 (wd (b % LL))))
          have Hp := Lib.hid (Hp.out.other (show p ≠ q by omega) (cs64 (wd (b % LL))).toArray)
          have HB := Lib.hid (bl_setRow HB.out (show w.heap.size ≤ q by omega) (cs64 (wd (b % LL))).toArray)
          generalize hg : u5.setRow q (cs64 (wd (b % LL))).toArray = u6 at HX HY HR Hq Hp HB ⊢
          clear hg
          try simp only [Act.put, List.getElem_toArray, List.getElem_cons_succ, List.getElem_cons_zero, List.setIfInBounds_toArray, List.set_cons_zero, List.set_cons_succ]
          refine reg_done (by kernel_rfl) ?_ _
          exact ⟨rfl, p, q, rfl, by omega, by omega, by omega, by omega, by omega, Hp, Hq, HR, HB⟩
        · refine ⟨_, rfl, fun K hK => ?_⟩
          try simp only [Act.put, List.getElem_toArray, List.getElem_cons_succ, List.getElem_cons_zero, List.setIfInBounds_toArray, List.set_cons_zero, List.set_cons_succ]
          rw [if_pos (by rfl)]
          refine wp_alloc_z 40 rfl z40 zero40 ?_
          refine hK.out _ _ trivial ?_
          clear hK K
          have hnHXp : w.heap.size ≠ u2.heap.size := by have := HX.out.lt; omega
          have hnHYp : w.heap.size + 1 ≠ u2.heap.size := by have := HY.out.lt; omega
          have hnHRp : w.heap.size + 1 + 1 ≠ u2.heap.size := by have := HR.out.lt; omega
          have hnHqp : q ≠ u2.heap.size := by have := Hq.out.lt; omega
          have Hp := Lib.hid (Bk.new u2 z40 40)
          have HX := Lib.hid (HX.out.old (.cells z40.toArray 40))
          have HY := Lib.hid (HY.out.old (.cells z40.toArray 40))
          have HR := Lib.hid (HR.out.old (.cells z40.toArray 40))
          have Hq := Lib.hid (Hq.out.old (.cells z40.toArray 40))
          have hlp : w.heap.size ≤ u2.heap.size := HB.out.size
          have HB := Lib.hid (bl_alloc HB.out (.cells z40.toArray 40))
          generalize hg : u2.alloc (.cells z40.toArray 40) = u3 at Hp HX HY HR Hq HB ⊢
          clear hg
          generalize hg : u2.heap.size = p at *
          clear hg
          try simp only [Act.put, List.getElem_toArray, List.getElem_cons_succ, List.getElem_cons_zero, List.setIfInBounds_toArray, List.set_cons_zero, List.set_cons_succ]
          refine reg_step hR 3 (by kernel_rfl) rfl fun K hK => ?_
          try simp only [Act.put, List.getElem_toArray, List.getElem_cons_succ, List.getElem_cons_zero, List.setIfInBounds_toArray, List.set_cons_zero, List.set_cons_succ]
          rw [if_pos (by rfl)]
          go_simp
          refine (rest_blk b hb (w.heap.size + 1) _ HY.out).mono ?_; rintro e u4 ⟨rfl, hb⟩
          refine hK.out _ _ trivial ?_
          clear hK K
          have HX := Lib.hid (HX.out.keep hb)
          have HY := Lib.hid (HY.out.keep hb)
          have HR := Lib.hid (HR.out.keep hb)
          have Hq := Lib.hid (Hq.out.keep hb)
          have Hp := Lib.hid (Hp.out.keep hb)
          have HB := Lib.hid (bl_call HB.out hb)
          clear hb
          try simp only [Act.put, List.getElem_toArray, List.getElem_cons_succ, List.getElem_cons_zero, List.setIfInBounds_toArray, List.set_cons_zero, List.set_cons_succ]
          refine reg_step hR 6 (by kernel_rfl) rfl fun K hK => ?_
          try simp only [Act.put, List.getElem_toArray, List.getElem_cons_succ, List.getElem_cons_zero, List.setIfInBounds_toArray, List.set_cons_zero, List.set_cons_succ]
          rw [if_pos (by rfl)]
          refine wp_store_bk 40 _ _ rfl p rfl (cs64 (wd (a % LL))) z40 rfl Hp.out (wd_info _) (wd_zlen _) (cs64_one _) ?_
          refine hK.out _ _ trivial ?_
          clear hK K
          have HX := Lib.hid (HX.out.other (show w.heap.size ≠ p by omega) (cs64 (wd (a % LL))).toArray)
          have HY := Lib.hid (HY.out.other (show w.heap.size + 1 ≠ p by omega) (cs64 (wd (a % LL))).toArray)
          have HR := Lib.hid (HR.out.other (show w.heap.size + 1 + 1 ≠ p by omega) (cs64 (wd (a % LL))).toArray)
          have Hq := Lib.hid (Hq.out.other (show q ≠ p by omega) (cs64 (wd (a % LL))).toArray)
          have Hp := Lib.hid (Hp.out.setRow (cs64 (wd (a % LL))))
          have HB := Lib.hid (bl_setRow HB.out (show w.heap.size ≤ p by omega) (cs64 (wd (a % LL))).toArray)
          generalize hg : u4.setRow p (cs64 (wd (a % LL))).toArray = u5 at HX HY HR Hq Hp HB ⊢
          clear hg
          try simp only [Act.put, List.getElem_toArray, List.getElem_cons_succ, List.getElem_cons_zero, List.setIfInBounds_toArray, List.set_cons_zero, List.set_cons_succ]
          refine reg_step hR 7 (by kernel_rfl) rfl fun K hK => ?_
          try simp only [Act.put, List.getElem_toArray, List.getElem_cons_succ, List.getElem_cons_zero, List.setIfInBounds_toArray, List.set_cons_zero, List.set_cons_succ]
          rw [if_pos (by rfl)]
          refine wp_store_bk 40 _ _ rfl q rfl (cs64 (wd (b % LL))) z40 rfl Hq.out (wd_info _) (wd_zlen _) (cs64_one _) ?_
          refine hK.out _ _ trivial ?_
          clear hK K
          have HX := Lib.hid (HX.out.other (show w.heap.size ≠ q by omega) (cs64 (wd (b % LL))).toArray)
          have HY := Lib.hid (HY.out.other (show w.heap.size + 1 ≠ q by omega) (cs64 (wd (b % LL))).toArray)
          have HR := Lib.hid (HR.out.other (show w.heap.size + 1 + 1 ≠ q by omega) (cs64 (wd (b % LL))).toArray)
          have Hq := Lib.hid (Hq.out.setRow (cs64 (wd (b % LL))))
          have Hp := Lib.hid (Hp.out.other (show p ≠ q by omega) (cs64 (wd (b % LL))).toArray)
          have HB := Lib.hid (bl_setRow HB.out (show w.heap.size ≤ q by omega) (cs64 (wd (b % LL))).toArray)
          generalize hg : u5.setRow q (cs64 (wd (b % LL))).toArray = u6 at HX HY HR Hq Hp HB ⊢
          clear hg
          try simp only [Act.put, List.getElem_toArray, List.getElem_cons_succ, List.getElem_cons_zero, List.setIfInBounds_toArray, List.set_cons_zero, List.set_cons_succ]
          refine reg_done (by kernel_rfl) ?_ _
          exact ⟨rfl, p, q, rfl, by omega, by omega, by omega, by omega, by omega, Hp, Hq, HR, HB⟩
      · refine ⟨_, rfl, fun K hK => ?_⟩
        try simp only [Act.put, List.getElem_toArray, List.getElem_cons_succ, List.getElem_cons_zero, List.setIfInBounds_toArray, List.set_cons_zero, List.set_cons_succ]
        rw [if_pos (by rfl)]
        refine wp_alloc_z 40 rfl z40 zero40 ?_
        refine hK.out _ _ trivial ?_
        clear hK K
        have hnHXp : w.heap.size ≠ u1.heap.size := by have := HX.out.lt; omega
        have hnHYp : w.heap.size + 1 ≠ u1.heap.size := by have := HY.out.lt; omega
        have hnHRp : w.heap.size + 1 + 1 ≠ u1.heap.size := by have := HR.out.lt; omega
        have hnHqp : q ≠ u1.heap.size := by have := Hq.out.lt; omega
        have Hp := Lib.hid (Bk.new u1 z40 40)
        have HX := Lib.hid (HX.out.old (.cells z40.toArray 40))
        have HY := Lib.hid (HY.out.old (.cells z40.toArray 40))
        have HR := Lib.hid (HR.out.old (.cells z40.toArray 40))
        have Hq := Lib.hid (Hq.out.old (.cells z40.toArray 40))
        have hlp : w.heap.size ≤ u1.heap.size := HB.out.size
        have HB := Lib.hid (bl_alloc HB.out (.cells z40.toArray 40))
        generalize hg : u1.alloc (.cells z40.toArray 40) = u2 at Hp HX HY HR Hq HB ⊢
        clear hg
        generalize hg : u1.heap.size = p at *
        clear hg
        try simp only [Act.put, List.getElem_toArray, List.getElem_cons_succ, List.getElem_cons_zero, List.setIfInBounds_toArray, List.set_cons_zero, List.set_cons_succ]
        refine reg_step hR 1 (by kernel_rfl) rfl fun K hK => ?_
        try simp only [Act.put, List.getElem_toArray, List.getElem_cons_succ, List.getElem_cons_zero, List.setIfInBounds_toArray, List.set_cons_zero, List.set_cons_succ]
        rw [if_pos (by rfl)]
        go_simp
        refine (rest_blk a ha w.heap.size _ HX.out).mono ?_; rintro e u3 ⟨rfl, hb⟩
        refine hK.out _ _ trivial ?_
        clear hK K
        have HX := Lib.hid (HX.out.keep hb)
        have HY := Lib.hid (HY.out.keep hb)
        have HR := Lib.hid (HR.out.keep hb)
        have Hq := Lib.hid (Hq.out.keep hb)
        have Hp := Lib.hid (Hp.out.keep hb)
        have HB := Lib.hid (bl_call HB.out hb)
        clear hb
        try simp only [Act.put, List.getElem_toArray, List.getElem_cons_succ, List.getElem_cons_zero, List.setIfInBounds_toArray, List.set_cons_zero, List.set_cons_succ]
        refine reg_step hR 3 (by kernel_rfl) rfl fun K hK => ?_
        try simp only [Act.put, List.getElem_toArray, List.getElem_cons_succ, List.getElem_cons_zero, List.setIfInBounds_toArray, List.set_cons_zero, List.set_cons_succ]
        rw [if_pos (by rfl)]
        go_simp
        refine (rest_blk b hb (w.heap.size + 1) _ HY.out).mono ?_; rintro e u4 ⟨rfl, hb⟩
        refine hK.out _ _ trivial ?_
        clear hK K
        have HX := Lib.hid (HX.out.keep hb)
        have HY := Lib.hid (HY.out.keep hb)
        have HR := Lib.hid (HR.out.keep hb)
        have Hq := Lib.hid (Hq.out.keep hb)
        have Hp := Lib.hid (Hp.out.keep hb)
        have HB := Lib.hid (bl_call HB.out hb)
        clear hb
        try simp only [Act.put, List.getElem_toArray, List.getElem_cons_succ, List.getElem_cons_zero, List.setIfInBounds_toArray, List.set_cons_zero, List.set_cons_succ]
        refine reg_step hR 6 (by kernel_rfl) rfl fun K hK => ?_
        try simp only [Act.put, List.getElem_toArray, List.getElem_cons_succ, List.getElem_cons_zero, List.setIfInBounds_toArray, List.set_cons_zero, List.set_cons_succ]
        rw [if_pos (by rfl)]
        refine wp_store_bk 40 _ _ rfl p rfl (cs64 (wd (a % LL))) z40 rfl Hp.out (wd_info _) (wd_zlen _) (cs64_one _) ?_
        refine hK.out _ _ trivial ?_
        clear hK K
        have HX := Lib.hid (HX.out.other (show w.heap.size ≠ p by omega) (cs64 (wd (a % LL))).toArray)
        have HY := Lib.hid (HY.out.other (show w.heap.size + 1 ≠ p by omega) (cs64 (wd (a % LL))).toArray)
        have HR := Lib.hid (HR.out.other (show w.heap.size + 1 + 1 ≠ p by omega) (cs64 (wd (a % LL))).toArray)
        have Hq := Lib.hid (Hq.out.other (show q ≠ p by omega) (cs64 (wd (a % LL))).toArray)
        have Hp := Lib.hid (Hp.out.setRow (cs64 (wd (a % LL))))
        have HB := Lib.hid (bl_setRow HB.out (show w.heap.size ≤ p by omega) (cs64 (wd (a % LL))).toArray)
        generalize hg : u4.setRow p (cs64 (wd (a % LL))).toArray = u5 at HX HY HR Hq Hp HB ⊢
        clear hg
        try simp only [Act.put, List.getElem_toArray, List.getElem_cons_succ, List.getElem_cons_zero, List.setIfInBounds_toArray, List.set_cons_zero, List.set_cons_succ]
        refine reg_step hR 7 (by kernel_rfl) rfl fun K hK => ?_
        try simp only [Act.put, List.getElem_toArray, List.getElem_cons_succ, List.getElem_cons_zero, List.setIfInBounds_toArray, List.set_cons_zero, List.set_cons_succ]
        rw [if_pos (by rfl)]
        refine wp_store_bk 40 _ _ rfl q rfl (cs64 (wd (b % LL))) z40 rfl Hq.out (wd_info _) (wd_zlen _) (cs64_one _) ?_
        refine hK.out _ _ trivial ?_
        clear hK K
        have HX := Lib.hid (HX.out.other (show w.heap.size ≠ q by omega) (cs64 (wd (b % LL))).toArray)
        have HY := Lib.hid (HY.out.other (show w.heap.size + 1 ≠ q by omega) (cs64 (wd (b % LL))).toArray)
        have HR := Lib.hid (HR.out.other (show w.heap.size + 1 + 1 ≠ q by omega) (cs64 (wd (b % LL))).toArray)
        have Hq := Lib.hid (Hq.out.setRow (cs64 (wd (b % LL))))
        have Hp := Lib.hid (Hp.out.other (show p ≠ q by omega) (cs64 (wd (b % LL))).toArray)
        have HB := Lib.hid (bl_setRow HB.out (show w.heap.size ≤ q by omega) (cs64 (wd (b % LL))).toArray)
        generalize hg : u5.setRow q (cs64 (wd (b % LL))).toArray = u6 at HX HY HR Hq Hp HB ⊢
        clear hg
        try simp only [Act.put, List.getElem_toArray, List.getElem_cons_succ, List.getElem_cons_zero, List.setIfInBounds_toArray, List.set_cons_zero, List.set_cons_succ]
        refine reg_done (by kernel_rfl) ?_ _
        exact ⟨rfl, p, q, rfl, by omega, by omega, by omega, by omega, by omega, Hp, Hq, HR, HB⟩
  · rintro a' u ⟨p, q, rfl, hpq, hpr, hqr, hlp, hlq, HP, HQ, HR, HB⟩
    go_wp2_with fail
    refine (add_any (a % LL) (b % LL) p q u (by have := HLX.out; have := HLY.out; omega) HP.out HQ.out).mono ?_; rintro e u2 ⟨⟨v, rfl⟩, hb2, hk2⟩
    rw [← Nat.add_mod] at hb2
    have HP := Lib.hid hb2
    have HR := Lib.hid (HR.out.kp hk2 (by omega))
    have HB := Lib.hid (bl_kp HB.out hk2 (by intro k hk; omega))
    clear hb2 hk2
    go_wp2_with fail
    refine (join_any ((a + b) % LL) p _ HP.out).mono ?_; rintro e u3 ⟨rfl, hb3⟩
    have HR := Lib.hid (HR.out.keep hb3)
    have HB := Lib.hid (bl_call HB.out hb3)
    clear hb3
    have HN := Lib.hid (num_info ((a + b) % LL))
    unfold num
    go_wp2_with (first | (refine wpList_store_bk rfl 25 _ _ rfl (w.heap.size + 1 + 1) rfl (cs8 (le 32 ((a + b) % LL))) z25 rfl HR.out HN.out (num_zlen _) (cs8_all _) ?_) | fail)
    exact ret_bk rfl (w.heap.size + 1 + 1) _ _ rfl rfl (HR.out.setRow _) Try.underlying25 rfl HN.out ⟨rfl, bl_setRow HB.out (by omega) _⟩
end Go.Proofs.Ytdfaliadkpdfpaa
