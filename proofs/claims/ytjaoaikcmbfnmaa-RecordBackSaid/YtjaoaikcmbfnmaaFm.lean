/- Lists of records: are they few, are they the same. -/
import Derived.Test.YtjaoaikcmbfnmaaAl
namespace Go.Proofs.Ytjaoaikcmbfnmaa
set_option maxRecDepth 100000
set_option linter.unusedSimpArgs false
set_option linter.unusedVariables false
open Go.RowKit

/-- Few records. -/
def few (l : List Rv) : Prop := l.length ≤ 40 ∧ ∀ x ∈ l, x.d.length ≤ 9000
instance (l : List Rv) : Decidable (few l) := inferInstanceAs (Decidable (_ ∧ _))
theorem few_more {l : List Rv} {i : Nat} {x : Rv} (h : ∀ x ∈ l.take i, x.d.length ≤ 9000) (hx : l[i]? = some x) (hk : x.d.length ≤ 9000) : ∀ x ∈ l.take (i + 1), x.d.length ≤ 9000 := by
  intro y hy
  rw [List.take_add_one, hx] at hy
  rcases List.mem_append.1 hy with hy | hy
  · exact h y hy
  · simp at hy
    subst hy
    exact hk

theorem Light_any (w : World) {top n c : Nat} {A : Option Addr} {l : List Rv} (h : Rs w top A n c l) : Calls Try.prog 16 #[.slice A n c, .int .i64 40, .int .i64 9000] w fun e w' => e = .returned (.bool (decide (few l))) ∧ w' = w := by
  have HA := Lib.hid h
  have hlen := Lib.hid h.1
  clear h
  by_cases h40 : n ≤ 40
  · go_enter Try.func16, Try.ntmps16
    go_wp2
    go_loopw [7] (fun v wr => ∃ i : Nat, i ≤ n ∧ v = .int .i64 (i : Int) ∧ Hid (∀ x ∈ l.take i, x.d.length ≤ 9000) ∧ wr = w) (fun v _ => n - (RowKit.intOf v).toNat)
    case atStart => exact ⟨0, by omega, rfl, Lib.hid (by simp), rfl⟩
    case round =>
      obtain ⟨i, hin, rfl, HF, rfl⟩ := hrel
      by_cases hlt : i < n
      · obtain ⟨ad, x, rfl, hx, hm, _, c0, c1⟩ := HA.out.at_ hlt
        have HX := Lib.hid hx
        have HM := Lib.hid hm
        clear hx hm
        by_cases hk : x.d.length ≤ 9000
        · go_wp2
          go_roundw
          case rel => exact ⟨i + 1, by omega, by go_num, Lib.hid (few_more HF.out HX.out hk), trivial⟩
          case measure => simp [RowKit.intOf]; omega
        · go_wp2
          go_ret
          exact ⟨by rw [show decide (few l) = false from decide_eq_false (fun h => hk (h.2 x HM.out))]; rfl, rfl⟩
      · obtain rfl : i = n := by omega
        go_wp2
        go_ret
        refine ⟨?_, rfl⟩
        have ht : l.take i = l := List.take_of_length_le (by have := hlen.out; omega)
        have hf := HF.out
        rw [ht] at hf
        rw [show decide (few l) = true from decide_eq_true (show few l from ⟨by have := hlen.out; omega, hf⟩)]; rfl
  · go_enter Try.func16, Try.ntmps16
    go_wp2
    go_ret
    exact ⟨by rw [show decide (few l) = false from decide_eq_false (fun h => h40 (by have := h.1; have := hlen.out; omega))]; rfl, rfl⟩

theorem cell2 {w : World} {ad : Addr} {v0 v1 : Value} {k : Nat} (c0 : w.cell? (ad.add k) = some v0) (c1 : w.cell? ⟨(ad.add k).block, (ad.add k).off + 1, none⟩ = some v1) : ∀ j v, ([v0, v1] : List Value)[j]? = some v → w.cell? ((ad.add k).add j) = some v := by
  intro j v hv
  have hn : (ad.add k).add 1 = ⟨(ad.add k).block, (ad.add k).off + 1, none⟩ := by generalize ad.add k = b; unfold Addr.add; simp
  rcases j with _ | _ | j
  · obtain rfl : v0 = v := by simpa using hv
    rw [add_add]
    exact c0
  · obtain rfl : v1 = v := by simpa using hv
    rw [hn]
    exact c1
  · simp at hv
theorem cell_lt {w : World} {ad : Addr} {v : Value} (h : w.cell? (ad.add 0) = some v) : ad.block < w.heap.size := by
  have := World.block_lt_of_cell? w _ h
  rwa [add_block] at this
theorem cells_keep {w w' : World} {ad : Addr} {cs : List Value} (h : ∀ j v, cs[j]? = some v → w.cell? (ad.add j) = some v) (hl : ad.block < w.heap.size) (hb : Below w.heap.size w w') : ∀ j v, cs[j]? = some v → w'.cell? (ad.add j) = some v :=
  fun j v hv => (hb.cell (by rw [add_block]; exact hl)).trans (h j v hv)
/-- Are lists of records, alone, the same. -/
theorem take_same {l l2 : List Rv} {i : Nat} {x y : Rv} (h : (l.take i).map Rv.r = (l2.take i).map Rv.r) (hx : l[i]? = some x) (hy : l2[i]? = some y) (he : x.k = y.k ∧ x.d = y.d) : (l.take (i + 1)).map Rv.r = (l2.take (i + 1)).map Rv.r := by
  rw [List.take_add_one, List.take_add_one, hx, hy, List.map_append, List.map_append, h]
  congr 1
  simp [Rv.r, he.1, he.2]
set_option maxHeartbeats 1600000 in
theorem Records_any (w : World) {n c n2 c2 : Nat} {A A2 : Option Addr} {l l2 : List Rv} (h : Rs w w.heap.size A n c l) (h2 : Rs w w.heap.size A2 n2 c2 l2) (hn4 : n ≤ 1073741824) :
    Calls Try.prog 20 #[.slice A n c, .slice A2 n2 c2] w fun e w' => e = .returned (.bool (decide (l.map Rv.r = l2.map Rv.r))) ∧ Below w.heap.size w w' := by
  have HA := Lib.hid h
  have HA2 := Lib.hid h2
  have hlen := Lib.hid h.1
  have hlen2 := Lib.hid h2.1
  clear h h2
  by_cases hn : n = n2
  · subst hn
    go_enter Try.func20, Try.ntmps20
    go_wp2
    go_loopw [5] (fun v wr => ∃ i : Nat, i ≤ n ∧ v = .int .i64 (i : Int) ∧ Hid ((l.take i).map Rv.r = (l2.take i).map Rv.r) ∧ Hid (Below w.heap.size w wr)) (fun v _ => n - (RowKit.intOf v).toNat)
    case atStart => exact ⟨0, by omega, rfl, Lib.hid (by simp), Lib.hid (bl0 w)⟩
    case round =>
      obtain ⟨i, hin, rfl, HF, HB⟩ := hrel
      have hL := hlen.out
      have hL2 := hlen2.out
      by_cases hlt : i < n
      · obtain ⟨ad, x, rfl, hx, hm, ho, c0, c1⟩ := (HA.out.lift HB.out).at_ hlt
        obtain ⟨ad2, x2, rfl, hx2, hm2, ho2, d0, d1⟩ := (HA2.out.lift HB.out).at_ hlt
        have HX := Lib.hid hx
        have HM := Lib.hid hm
        have HO := Lib.hid ho
        have HX2 := Lib.hid hx2
        have HM2 := Lib.hid hm2
        have HO2 := Lib.hid ho2
        have HQ1 := Lib.hid (cell2 c0 c1)
        have HQ2 := Lib.hid (cell2 d0 d1)
        clear hx hm ho hx2 hm2 ho2 c0 c1 d0 d1
        go_wp2
        have hR := Old.stays
        refine reg_start Old follows_mixed ?_
        have HQ1' := Lib.hid (show ∀ j v, ([.int .u8 (x.k.toNat : Int), .slice x.A x.d.length x.c] : List Value)[j]? = some v → wr.drew.cell? ((ad.add (i * 2)).add j) = some v from HQ1.out)
        have HQ2' := Lib.hid (show ∀ j v, ([.int .u8 (x2.k.toNat : Int), .slice x2.A x2.d.length x2.c] : List Value)[j]? = some v → wr.drew.cell? ((ad2.add (i * 2)).add j) = some v from HQ2.out)
        have HBD := Lib.hid (bl_call HB.out (Below.refl _ wr).drew)
        have HO' := Lib.hid (Rv.ok.below HO.out (Below.refl _ wr).drew)
        have HO2' := Lib.hid (Rv.ok.below HO2.out (Below.refl _ wr).drew)
        have HT1 := Lib.hid (show (ad.add (i * 2)).block < wr.drew.heap.size from cell_lt (HQ1.out 0 _ rfl))
        have HT2 := Lib.hid (show (ad2.add (i * 2)).block < wr.drew.heap.size from cell_lt (HQ2.out 0 _ rfl))
        clear HQ1 HQ2 HO HO2
        have hsz : wr.drew.heap.size = wr.heap.size := rfl
        rw [← hsz] at HO' HO2'
        generalize wr.drew = w1 at HQ1' HQ2' HBD HO' HO2' HT1 HT2 hsz ⊢
        refine reg_take (v := .slice (some ad) n c) hR 0 rfl (by kernel_rfl) (by kernel_rfl) (by kernel_rfl) (fun _ _ _ h => h) (by rfl) ?_ ?_
        · intro W hW; go_simp; try with_reducible rfl
        try simp only [Act.put, List.getElem_toArray, List.getElem_cons_succ, List.getElem_cons_zero, List.setIfInBounds_toArray, List.set_cons_zero, List.set_cons_succ]
        refine reg_take (v := .int .i64 (i : Int)) hR 1 rfl (by kernel_rfl) (by kernel_rfl) (by kernel_rfl) (fun _ _ _ h => h) (by rfl) ?_ ?_
        · intro W hW; go_simp; try with_reducible rfl
        try simp only [Act.put, List.getElem_toArray, List.getElem_cons_succ, List.getElem_cons_zero, List.setIfInBounds_toArray, List.set_cons_zero, List.set_cons_succ]
        refine reg_take (v := .pointer (some (ad.add (i * 2)))) hR 2 rfl (by kernel_rfl) (by kernel_rfl) (by kernel_rfl) (fun _ _ _ h => h) (by rfl) ?_ ?_
        · intro W hW; go_simp; try with_reducible rfl
        try simp only [Act.put, List.getElem_toArray, List.getElem_cons_succ, List.getElem_cons_zero, List.setIfInBounds_toArray, List.set_cons_zero, List.set_cons_succ]
        refine reg_take (v := .agg #[.int .u8 (x.k.toNat : Int), .slice x.A x.d.length x.c]) hR 3 rfl (by kernel_rfl) (by kernel_rfl) (by kernel_rfl) (fun _ _ _ h => h) (by rfl) ?_ ?_
        · intro W hW; exact exec_load_at 31 _ rfl (ad.add (i * 2)) rfl [.int .u8 (x.k.toNat : Int), .slice x.A x.d.length x.c] _ (cells_keep HQ1'.out HT1.out hW) Try.underlying31 rfl info31
        try simp only [Act.put, List.getElem_toArray, List.getElem_cons_succ, List.getElem_cons_zero, List.setIfInBounds_toArray, List.set_cons_zero, List.set_cons_succ]
        refine reg_take (v := .slice (some ad2) n c2) hR 4 rfl (by kernel_rfl) (by kernel_rfl) (by kernel_rfl) (fun _ _ _ h => h) (by rfl) ?_ ?_
        · intro W hW; go_simp; try with_reducible rfl
        try simp only [Act.put, List.getElem_toArray, List.getElem_cons_succ, List.getElem_cons_zero, List.setIfInBounds_toArray, List.set_cons_zero, List.set_cons_succ]
        refine reg_take (v := .int .i64 (i : Int)) hR 5 rfl (by kernel_rfl) (by kernel_rfl) (by kernel_rfl) (fun _ _ _ h => h) (by rfl) ?_ ?_
        · intro W hW; go_simp; try with_reducible rfl
        try simp only [Act.put, List.getElem_toArray, List.getElem_cons_succ, List.getElem_cons_zero, List.setIfInBounds_toArray, List.set_cons_zero, List.set_cons_succ]
        refine reg_take (v := .pointer (some (ad2.add (i * 2)))) hR 6 rfl (by kernel_rfl) (by kernel_rfl) (by kernel_rfl) (fun _ _ _ h => h) (by rfl) ?_ ?_
        · intro W hW; go_simp; try with_reducible rfl
        try simp only [Act.put, List.getElem_toArray, List.getElem_cons_succ, List.getElem_cons_zero, List.setIfInBounds_toArray, List.set_cons_zero, List.set_cons_succ]
        refine reg_take (v := .agg #[.int .u8 (x2.k.toNat : Int), .slice x2.A x2.d.length x2.c]) hR 7 rfl (by kernel_rfl) (by kernel_rfl) (by kernel_rfl) (fun _ _ _ h => h) (by rfl) ?_ ?_
        · intro W hW; exact exec_load_at 31 _ rfl (ad2.add (i * 2)) rfl [.int .u8 (x2.k.toNat : Int), .slice x2.A x2.d.length x2.c] _ (cells_keep HQ2'.out HT2.out hW) Try.underlying31 rfl info31
        try simp only [Act.put, List.getElem_toArray, List.getElem_cons_succ, List.getElem_cons_zero, List.setIfInBounds_toArray, List.set_cons_zero, List.set_cons_succ]
        by_cases he : x.k = x2.k ∧ x.d = x2.d
        · have HE := Lib.hid he
          clear he
          refine reg_step hR 8 (by kernel_rfl) rfl fun K hK => ?_
          try simp only [Act.put, List.getElem_toArray, List.getElem_cons_succ, List.getElem_cons_zero, List.setIfInBounds_toArray, List.set_cons_zero, List.set_cons_succ]
          go_simp
          refine (Rec_yes w1 HO'.out HO2'.out HE.out).mono ?_; rintro e w2 ⟨rfl, hb⟩
          refine hK.out _ _ hb ?_
          have HB2 := Lib.hid (bl_call HBD.out hb)
          clear hb
          clear hK K
          try simp only [Act.put, List.getElem_toArray, List.getElem_cons_succ, List.getElem_cons_zero, List.setIfInBounds_toArray, List.set_cons_zero, List.set_cons_succ]
          refine reg_take (v := .bool false) hR 9 rfl (by kernel_rfl) (by kernel_rfl) (by kernel_rfl) (fun _ _ _ h => h) (by rfl) ?_ ?_
          · intro W hW; go_simp; try with_reducible rfl
          try simp only [Act.put, List.getElem_toArray, List.getElem_cons_succ, List.getElem_cons_zero, List.setIfInBounds_toArray, List.set_cons_zero, List.set_cons_succ]
          refine reg_done (by kernel_rfl) ?_ _
          go_wp2
          go_roundw
          case rel => exact ⟨i + 1, by omega, by go_num, Lib.hid (take_same HF.out HX.out HX2.out HE.out), HB2⟩
          case measure => simp [RowKit.intOf]; omega
        · have HE := Lib.hid he
          clear he
          refine reg_step hR 8 (by kernel_rfl) rfl fun K hK => ?_
          try simp only [Act.put, List.getElem_toArray, List.getElem_cons_succ, List.getElem_cons_zero, List.setIfInBounds_toArray, List.set_cons_zero, List.set_cons_succ]
          go_simp
          refine (Rec_no w1 HO'.out HO2'.out HE.out).mono ?_; rintro e w2 ⟨rfl, hb⟩
          refine hK.out _ _ hb ?_
          have HB2 := Lib.hid (bl_call HBD.out hb)
          clear hb
          clear hK K
          try simp only [Act.put, List.getElem_toArray, List.getElem_cons_succ, List.getElem_cons_zero, List.setIfInBounds_toArray, List.set_cons_zero, List.set_cons_succ]
          refine reg_take (v := .bool true) hR 9 rfl (by kernel_rfl) (by kernel_rfl) (by kernel_rfl) (fun _ _ _ h => h) (by rfl) ?_ ?_
          · intro W hW; go_simp; try with_reducible rfl
          try simp only [Act.put, List.getElem_toArray, List.getElem_cons_succ, List.getElem_cons_zero, List.setIfInBounds_toArray, List.set_cons_zero, List.set_cons_succ]
          refine reg_done (by kernel_rfl) ?_ _
          go_wp2
          go_ret
          refine ⟨?_, HB2.out⟩
          rw [show decide (l.map Rv.r = l2.map Rv.r) = false from decide_eq_false (fun h => HE.out (by
            have h3 := congrArg (fun t => t[i]?) h
            simp only [List.getElem?_map, HX.out, HX2.out, Option.map_some] at h3
            have h4 := Option.some.inj h3
            exact ⟨congrArg Prod.fst h4, congrArg Prod.snd h4⟩))]
          rfl
      · obtain rfl : i = n := by omega
        go_wp2
        go_ret
        refine ⟨?_, HB.out⟩
        have hf := HF.out
        rw [List.take_of_length_le (by omega), List.take_of_length_le (by omega)] at hf
        rw [show decide (l.map Rv.r = l2.map Rv.r) = true from decide_eq_true hf]; rfl
  · go_enter Try.func20, Try.ntmps20
    go_wp2
    go_ret
    exact ⟨by rw [show decide (l.map Rv.r = l2.map Rv.r) = false from decide_eq_false (fun h => hn (by have := congrArg List.length h; rw [List.length_map, List.length_map] at this; have := hlen.out; have := hlen2.out; omega))]; rfl, bl0 w⟩
end Go.Proofs.Ytjaoaikcmbfnmaa
