/- A page file that nobody made: PagesNil. -/
import Derived.Test.YtdfihpnmiiaflaaDoorZ19
set_option linter.unusedSimpArgs false
set_option linter.unusedVariables false
namespace Go.Proofs.YtdfihpnmiiaflaaDoor
set_option maxRecDepth 8192
set_option linter.unusedSimpArgs false
set_option linter.unusedVariables false
open Go.RowKit Go.Maps

/-- What Bytes answers. -/
def okB (n : Int) (k : Nat) : Prop := 0 ≤ n ∧ n ≤ 2147483647 ∧ k ≤ 500
instance (n : Int) (k : Nat) : Decidable (okB n k) := inferInstanceAs (Decidable (_ ∧ _))
def resB (n : Int) (b : List UInt8) : List UInt8 := if okB n b.length then pageB n.toNat b else []
def errB (n : Int) (b : List UInt8) : Int := if okB n b.length then 0 else 2
theorem bytes_u {A : Option Addr} {c : Nat} {b : List UInt8} (w : World) (n : Int) (hr : Rd w w.heap.size A b.length c b) (hk : b.length ≤ 1152921504606846976) :
    Calls Tryd.prog 12 #[.int .i64 n, .slice A b.length c] w fun e w' => ∃ A' k' c', e = .returned (.tuple #[.slice A' k' c', .int .i64 (errB n b)]) ∧ Rd w' w'.heap.size A' k' c' (resB n b) ∧ Below w.heap.size w w' := by
  by_cases h : okB n b.length
  · obtain ⟨v, rfl⟩ : ∃ v : Nat, n = (v : Int) := ⟨n.toNat, by have := h.1; omega⟩
    refine (bytes_pg w v hr h.2.2 (by have := h.2.1; omega)).mono ?_
    rintro e w' ⟨f, he, hf, hb, hbl⟩
    refine ⟨some ⟨f, 0, none⟩, 512, 512, by rw [errB, if_pos h]; exact he, ?_, hbl⟩
    rw [resB, if_pos h, Int.toNat_natCast]
    have h1 := hb.lt
    obtain ⟨t, h2⟩ := hb
    have := Rd.of_block (l := pageB v b) h2 h1
    rw [pageB_length h.2.2] at this
    exact this
  · refine (bytes_bad w n hk h).mono ?_
    rintro e w' ⟨he, rfl⟩
    exact ⟨none, 0, 0, by rw [errB, if_neg h]; exact he, by rw [resB, if_neg h]; exact Rd.nil _ _ _ _, Below.refl _ _⟩
theorem qbytes_u {A : Option Addr} {c : Nat} {b : List UInt8} (w : World) (n : Int) (hr : Rd w w.heap.size A b.length c b) (hk : b.length ≤ 1152921504606846976) :
    Calls Tryd.prog 19 #[.int .i64 n, .slice A b.length c] w fun e w' => ∃ A' k' c', e = .returned (.tuple #[.slice A' k' c', .int .i64 (errB n b)]) ∧ Rd w' w'.heap.size A' k' c' (resB n b) ∧ Below w.heap.size w w' := by
  by_cases h : okB n b.length
  · obtain ⟨v, rfl⟩ : ∃ v : Nat, n = (v : Int) := ⟨n.toNat, by have := h.1; omega⟩
    refine (qbytes_any w v hr h.2.2 (by have := h.2.1; omega)).mono ?_
    rintro e w' ⟨v2, he, ho, hbl⟩
    obtain ⟨A2, c2, rfl, hr2⟩ := ho.rd
    refine ⟨A2, _, c2, by rw [errB, if_pos h]; exact he, ?_, hbl⟩
    rw [resB, if_pos h, Int.toNat_natCast]
    exact hr2
  · refine (qbytes_bad w n hk h).mono ?_
    rintro e w' ⟨he, rfl⟩
    exact ⟨none, 0, 0, by rw [errB, if_neg h]; exact he, by rw [resB, if_neg h]; exact Rd.nil _ _ _ _, Below.refl _ _⟩
theorem info42 : (Tryd.prog.info? 42).map (·.size) = some 4 := by kernel_rfl
theorem ai_one (w : World) (x : Av) (hx : x.ok w w.heap.size) : Ai (w.alloc (.cells x.cells.toArray 42)) (w.alloc (.cells x.cells.toArray 42)).heap.size (some ⟨w.heap.size, 0, none⟩) 1 1 [x] := by
  have hb : Below w.heap.size w (w.alloc (.cells x.cells.toArray 42)) := bl_alloc (bl0 w) _
  have hbs := hb.size
  refine ⟨rfl, Nat.le_refl _, fun y hy => ?_, fun _ => ⟨_, rfl, by simp, fun j y hy i v hv => ?_⟩⟩
  · simp at hy; subst hy
    obtain ⟨h1, h2, h3⟩ := hx.below hb
    refine ⟨⟨h1.1, h1.2.1, h1.2.2.1, fun hn => ?_⟩, h2.more hbs, h3⟩
    obtain ⟨ad, e, hlt, hc⟩ := h1.2.2.2 hn
    exact ⟨ad, e, by omega, hc⟩
  · rcases j with _ | j
    · simp at hy; subst hy
      rw [show ((⟨w.heap.size, 0, none⟩ : Addr).add (0 * 4 + i)) = ⟨w.heap.size, i, none⟩ by unfold Addr.add; split <;> simp_all, cell_of_row _ w.heap.size i _ 42 (0, 0) (heap_alloc_new w _)]
      simpa using hv
    · simp at hy
set_option maxHeartbeats 1600000 in
theorem PagesNil_walk (x : Av) (w : World) (hT : Tab w) (hx : x.ok w w.heap.size) : Calls Tryd.prog 4 #[.agg x.cells.toArray] w fun e w' => e = .returned (.bool true) ∧ Below w.heap.size w w' := by
  have HT := Lib.hid hT
  have HX := Lib.hid hx
  have HB1 := Lib.hid (bl_alloc (bl0 w) (.cells x.cells.toArray 42))
  have HK1 := Lib.hid (Bk.new w x.cells 42)
  obtain ⟨XX, hXX⟩ : ∃ y, y = x := ⟨_, rfl⟩
  obtain ⟨⟨kind, n, L, b⟩, A, ac, D, dc⟩ := x
  have HAI := Lib.hid (fun W hW => ai_one W XX hW)
  have HXX := Lib.hid hXX
  clear hT hx
  simp only [Av.cells] at HB1 HK1 ⊢
  go_enter Tryd.func4, Tryd.ntmps4
  go_wp2_with fail
  refine (lives_any _ (HT.out.below HB1.out HT.out.pos)).mono ?_; rintro e w2 ⟨rfl, hb⟩
  have HB2 := Lib.hid (bl_call HB1.out hb)
  have HK2 := Lib.hid (HK1.out.keep hb)
  obtain ⟨t2, hk2⟩ := HK2.out
  have HK2' := Lib.hid hk2
  clear hb hk2 HB1 HK1
  go_wp2_with (first | (refine wpList_load_row rfl 42 _ rfl w.heap.size rfl t2 _ (0, 0) _ HK2'.out Tryd.underlying42 rfl (by exact info42) ?_) | fail)
  have hax : XX.ok w2 w2.heap.size := by
    rw [HXX.out]
    obtain ⟨h1, h2, h3⟩ := HX.out.below HB2.out
    have hbs := HB2.out.size
    refine ⟨⟨h1.1, h1.2.1, h1.2.2.1, fun hn => ?_⟩, h2.more hbs, h3⟩
    obtain ⟨ad, e, hlt, hc⟩ := h1.2.2.2 hn
    exact ⟨ad, e, by omega, hc⟩
  have hai := HAI.out w2 hax
  rw [HXX.out] at hai
  refine (small_any _ (show Ai (w2.alloc (.cells #[.int .i64 kind, .int .i64 n, .slice A L.length ac, .slice D b.length dc] 42)) _ _ _ _ _ from hai)).mono ?_; rintro e w3 ⟨rfl, hw⟩; subst w3
  have HB3 := Lib.hid (bl_call HB2.out (bl_alloc (bl0 w2) (.cells #[.int .i64 kind, .int .i64 n, .slice A L.length ac, .slice D b.length dc] 42)))
  have HK3 := Lib.hid (HK2.out.old (.cells #[.int .i64 kind, .int .i64 n, .slice A L.length ac, .slice D b.length dc] 42))
  generalize w2.alloc (.cells #[.int .i64 kind, .int .i64 n, .slice A L.length ac, .slice D b.length dc] 42) = T at HB3 HK3 ⊢
  clear hax hai HK2 HK2' HB2
  by_cases hf : few [⟨⟨kind, n, L, b⟩, A, ac, D, dc⟩]
  · rw [decide_eq_true hf]
    have hbl : b.length ≤ 600 := (hf.2 ⟨⟨kind, n, L, b⟩, A, ac, D, dc⟩ (by simp)).1
    have hxa := HX.out.2.2
    have hc1 := HK3.out.cell (k := 1) rfl
    have hc2 := HK3.out.cell (k := 2) rfl
    have hc3 := HK3.out.cell (k := 3) rfl
    clear hf
    go_wp2_with (first | (go_at_call 10; refine (new_pg_nil _ _).mono ?_; rintro e w' ⟨rfl, hw⟩; subst w') | (go_at_call 9; refine (read_pg_nil _ _).mono ?_; rintro e w' ⟨rfl, hw⟩; subst w') | (go_at_call 11; refine (keep_pg_nil _ _).mono ?_; rintro e w' ⟨rfl, hw⟩; subst w'))
    have HKR := Lib.hid HK3.out
    have HXD : Hid (∀ W, Below T.heap.size T W → Rd W W.heap.size D b.length dc b) := Lib.hid (fun W hW => by
      have h1 := HX.out.2.1.below (HB3.out.trans (hW.mono HB3.out.size))
      exact h1.more (by have := HB3.out.size; have := hW.size; omega))
    refine region_meetQ (fun a0 a' w' => ∃ A5 c5 A6 k6 c6, a' = puts a0 [(42, .pointer (some ⟨w.heap.size, 1, none⟩)), (43, .int .i64 n), (44, .pointer (some ⟨w.heap.size, 3, none⟩)), (45, .slice D b.length dc), (46, .slice A5 b.length c5), (47, .tuple #[.slice A6 k6 c6, .int .i64 (errB n b)]), (41, .tuple #[.slice A6 k6 c6, .int .i64 (errB n b)]), (48, .slice A6 k6 c6), (49, .int .i64 (errB n b)), (10, .slice A6 k6 c6), (11, .int .i64 (errB n b))] ∧ Hid (Rd w' w'.heap.size A6 k6 c6 (resB n b)) ∧ Hid (Below T.heap.size T w')) ?_ ?_
    · have hR := Sb.stays T.heap.size
      refine reg_start (Sb T.heap.size) follows_mixed ?_
      have HB := Lib.hid (Below.refl T.heap.size T).drew
      generalize T.drew = u0 at HB ⊢
      refine reg_take (v := .pointer (some ⟨w.heap.size, 1, none⟩)) hR 0 rfl (by kernel_rfl) (by kernel_rfl) (by kernel_rfl) (fun _ _ _ h => by cases h.1) (by rfl) ?_ ?_
      · intro W hW; go_simp; try with_reducible rfl
      try simp only [Act.put, List.getElem_toArray, List.getElem_cons_succ, List.getElem_cons_zero, List.setIfInBounds_toArray, List.set_cons_zero, List.set_cons_succ]
      refine reg_take (v := .int .i64 n) hR 1 rfl (by kernel_rfl) (by kernel_rfl) (by kernel_rfl) (fun _ _ _ h => by cases h.1) (by rfl) ?_ ?_
      · intro W hW; exact exec_load_cell 3 _ rfl Tryd.isAgg3 rfl ((HKR.out.keep (HB.out.trans hW)).cell rfl)
      try simp only [Act.put, List.getElem_toArray, List.getElem_cons_succ, List.getElem_cons_zero, List.setIfInBounds_toArray, List.set_cons_zero, List.set_cons_succ]
      refine reg_take (v := .pointer (some ⟨w.heap.size, 3, none⟩)) hR 2 rfl (by kernel_rfl) (by kernel_rfl) (by kernel_rfl) (fun _ _ _ h => by cases h.1) (by rfl) ?_ ?_
      · intro W hW; go_simp; try with_reducible rfl
      try simp only [Act.put, List.getElem_toArray, List.getElem_cons_succ, List.getElem_cons_zero, List.setIfInBounds_toArray, List.set_cons_zero, List.set_cons_succ]
      refine reg_take (v := .slice D b.length dc) hR 3 rfl (by kernel_rfl) (by kernel_rfl) (by kernel_rfl) (fun _ _ _ h => by cases h.1) (by rfl) ?_ ?_
      · intro W hW; exact exec_load_cell 30 _ rfl Tryd.isAgg30 rfl ((HKR.out.keep (HB.out.trans hW)).cell rfl)
      try simp only [Act.put, List.getElem_toArray, List.getElem_cons_succ, List.getElem_cons_zero, List.setIfInBounds_toArray, List.set_cons_zero, List.set_cons_succ]
      refine reg_step hR 4 (by kernel_rfl) rfl fun K hK => ?_
      try simp only [Act.put, List.getElem_toArray, List.getElem_cons_succ, List.getElem_cons_zero, List.setIfInBounds_toArray, List.set_cons_zero, List.set_cons_succ]
      rw [if_pos (by rfl)]
      go_simp
      refine (OOwn_any u0 (HXD.out _ HB.out) (by omega)).mono ?_; rintro e u1 ⟨v5, rfl, ho5, hb⟩
      refine hK.out _ _ (show Below _ _ _ from hb.mono HB.out.size) ?_
      clear hK K
      obtain ⟨A5, c5, rfl, hs5⟩ := ho5.rd
      have HS5 := Lib.hid hs5
      replace HB := Lib.hid (HB.out.trans (hb.mono HB.out.size))
      clear hb ho5 hs5
      try simp only [Act.put, List.getElem_toArray, List.getElem_cons_succ, List.getElem_cons_zero, List.setIfInBounds_toArray, List.set_cons_zero, List.set_cons_succ]
      refine reg_step hR 5 (by kernel_rfl) rfl fun K hK => ?_
      try simp only [Act.put, List.getElem_toArray, List.getElem_cons_succ, List.getElem_cons_zero, List.setIfInBounds_toArray, List.set_cons_zero, List.set_cons_succ]
      rw [if_pos (by rfl)]
      go_simp
      refine (bytes_u u1 n HS5.out (by omega)).mono ?_; rintro e u2 ⟨A6, k6, c6, rfl, hs6, hb⟩
      refine hK.out _ _ (show Below _ _ _ from hb.mono HB.out.size) ?_
      clear hK K
      have HS6 := Lib.hid hs6
      replace HB := Lib.hid (HB.out.trans (hb.mono HB.out.size))
      clear hb hs6
      try simp only [Act.put, List.getElem_toArray, List.getElem_cons_succ, List.getElem_cons_zero, List.setIfInBounds_toArray, List.set_cons_zero, List.set_cons_succ]
      refine reg_take (v := .tuple #[.slice A6 k6 c6, .int .i64 (errB n b)]) hR 6 rfl (by kernel_rfl) (by kernel_rfl) (by kernel_rfl) (fun _ _ _ h => by cases h.1) (by rfl) ?_ ?_
      · intro W hW; go_simp; try with_reducible rfl
      try simp only [Act.put, List.getElem_toArray, List.getElem_cons_succ, List.getElem_cons_zero, List.setIfInBounds_toArray, List.set_cons_zero, List.set_cons_succ]
      refine reg_take (v := .slice A6 k6 c6) hR 7 rfl (by kernel_rfl) (by kernel_rfl) (by kernel_rfl) (fun _ _ _ h => by cases h.1) (by rfl) ?_ ?_
      · intro W hW; go_simp; try with_reducible rfl
      try simp only [Act.put, List.getElem_toArray, List.getElem_cons_succ, List.getElem_cons_zero, List.setIfInBounds_toArray, List.set_cons_zero, List.set_cons_succ]
      refine reg_take (v := .int .i64 (errB n b)) hR 8 rfl (by kernel_rfl) (by kernel_rfl) (by kernel_rfl) (fun _ _ _ h => by cases h.1) (by rfl) ?_ ?_
      · intro W hW; go_simp; try with_reducible rfl
      try simp only [Act.put, List.getElem_toArray, List.getElem_cons_succ, List.getElem_cons_zero, List.setIfInBounds_toArray, List.set_cons_zero, List.set_cons_succ]
      refine reg_take (v := .slice A6 k6 c6) hR 9 rfl (by kernel_rfl) (by kernel_rfl) (by kernel_rfl) (fun _ _ _ h => by cases h.1) (by rfl) ?_ ?_
      · intro W hW; go_simp; try with_reducible rfl
      try simp only [Act.put, List.getElem_toArray, List.getElem_cons_succ, List.getElem_cons_zero, List.setIfInBounds_toArray, List.set_cons_zero, List.set_cons_succ]
      refine reg_take (v := .int .i64 (errB n b)) hR 10 rfl (by kernel_rfl) (by kernel_rfl) (by kernel_rfl) (fun _ _ _ h => by cases h.1) (by rfl) ?_ ?_
      · intro W hW; go_simp; try with_reducible rfl
      try simp only [Act.put, List.getElem_toArray, List.getElem_cons_succ, List.getElem_cons_zero, List.setIfInBounds_toArray, List.set_cons_zero, List.set_cons_succ]
      refine reg_done (by kernel_rfl) ?_ _
      refine ⟨rfl, A5, c5, A6, k6, c6, ?_, HS6, HB⟩
      simp only [puts, List.foldl_cons, List.foldl_nil, Act.put, List.getElem_toArray, List.getElem_cons_succ, List.getElem_cons_zero, List.setIfInBounds_toArray, List.set_cons_zero, List.set_cons_succ]
    rintro a' w4 ⟨A5, c5, A6, k6, c6, rfl, HS6, HB4⟩
    simp only [puts, List.foldl_cons, List.foldl_nil, Act.put, List.getElem_toArray, List.getElem_cons_succ, List.getElem_cons_zero, List.setIfInBounds_toArray, List.set_cons_zero, List.set_cons_succ]
    have hd1 := (HKR.out.keep HB4.out).cell (k := 1) rfl
    have hd3 := (HKR.out.keep HB4.out).cell (k := 3) rfl
    have HXE := Lib.hid (HXD.out _ HB4.out)
    clear hc1 hc2 hc3
    go_wp2_with fail
    refine (qbytes_u w4 n HXE.out (by omega)).mono ?_; rintro e w5 ⟨A7, k7, c7, rfl, hs7, hb⟩
    have HS7 := Lib.hid hs7
    have HB5 := Lib.hid (bl_call HB4.out hb)
    have HS65 := Lib.hid (HS6.out.below hb)
    have hd1 := (HKR.out.keep HB5.out).cell (k := 1) rfl
    have hstr1 := run_str HS65.out
    have hstr2 := run_str HS7.out
    have HBF := Lib.hid (HB3.out.trans (HB5.out.mono HB3.out.size))
    clear hb hs7 hd3
    go_wp2_with (first | (go_at_call 20; refine (free_pg_nil _ _).mono ?_; rintro e w' ⟨rfl, hw⟩; subst w') | (go_at_call 21; refine (sync_pg_nil _).mono ?_; rintro e w' ⟨rfl, hw⟩; subst w') | (go_at_call 16; refine (used_pg_nil _).mono ?_; rintro e w' ⟨rfl, hw⟩; subst w') | (go_at_call 14; refine (spare_pg_nil _).mono ?_; rintro e w' ⟨rfl, hw⟩; subst w'))
    go_ret
    exact ⟨by simp, HBF.out⟩
  · rw [decide_eq_false hf]
    clear hf
    go_wp2
    go_ret
    exact ⟨rfl, HB3.out⟩
end Go.Proofs.YtdfihpnmiiaflaaDoor
