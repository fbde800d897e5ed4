package record

import (
	"bytes"
	"crypto/sha512"
	"encoding/binary"
	"math"
	"slices"
	"testing"

	"headwater/api"
)

const most = api.MaxData

// counted is bytes of which no two near ones are alike.
func counted(n int) []byte {
	b := make([]byte, n)
	for i := range b {
		b[i] = byte(i*7 + i>>8 + 1)
	}
	return b
}

func rec(kind byte, n int) api.Record { return api.Record{Kind: kind, Data: counted(n)} }

// spelled is a number's bytes of a given length, 1 to 4, by layer 1's words.
func spelled(n uint64, size int) []byte {
	var b [4]byte
	binary.BigEndian.PutUint32(b[:], uint32(n))
	b[4-size] |= [5]byte{0, 0, 0x80, 0xc0, 0xe0}[size]
	return b[4-size:]
}

// length is the bytes of how many Data there are, in as few as have room.
func length(n int) []byte {
	for size := 1; size < 4; size++ {
		if n < 1<<(7*size) {
			return spelled(uint64(n), size)
		}
	}
	return spelled(uint64(n), 4)
}

// parts is a record's Kind, and its Data as a block, by the chapter's words.
func parts(r api.Record) []byte {
	return slices.Concat([]byte{r.Kind}, length(len(r.Data)), r.Data)
}

// chainBehind is the chain behind a record by the chapter's words.
func chainBehind(chain api.Digest, r api.Record) api.Digest {
	return sha512.Sum512_256(slices.Concat(chain[:], parts(r)))
}

// whole is a record's bytes by the chapter's words.
func whole(chain api.Digest, r api.Record) []byte {
	behind := chainBehind(chain, r)
	return slices.Concat(parts(r), behind[:8])
}

// chains are some chains, that of noughts ahead.
func chains() []api.Digest {
	return []api.Digest{{}, sha512.Sum512_256(nil), First(1), {31: 1}, {0: 1}}
}

// lengths are how many Data there may be, at each edge.
func lengths() []int {
	return []int{0, 1, 2, 3, 7, 8, 9, 126, 127, 128, 129, 255, 256, 300, most - 1, most}
}

// draws are numbers that are thrown about, always the same ones.
type draws uint64

func (d *draws) below(n int) int {
	*d = *d*6364136223846793005 + 1442695040888963407
	return int(uint64(*d)>>33) % n
}

func (d *draws) record() api.Record {
	r := api.Record{Kind: byte(1 + d.below(255))}
	n := d.below(200)
	if d.below(20) == 0 {
		n = d.below(most + 1)
	}
	for range n {
		r.Data = append(r.Data, byte(d.below(256)))
	}
	return r
}

// reads fails unless b's first record is r, of so many bytes.
func reads(t *testing.T, name string, chain api.Digest, b []byte, r api.Record, size int) {
	t.Helper()
	got, n, behind, err := Read(chain, b)
	if err != api.OK || n != size || behind != chainBehind(chain, r) || got.Kind != r.Kind || !bytes.Equal(got.Data, r.Data) {
		t.Fatalf("%s: Read: Kind %d, %d Data, %d bytes, %v", name, got.Kind, len(got.Data), n, err)
	}
}

// fails fails unless Read of b answers this error, and nothing.
func fails(t *testing.T, name string, chain api.Digest, b []byte, want api.Errno) {
	t.Helper()
	r, n, behind, err := Read(chain, b)
	if err != want {
		t.Fatalf("%s: Read: %v, want %v", name, err, want)
	}
	if r.Kind != 0 || len(r.Data) != 0 || n != 0 || behind != (api.Digest{}) {
		t.Fatalf("%s: Read answers something beside an error: %v, %d, %x", name, r, n, behind)
	}
}

// all fails unless All of b answers these records, so many bytes, this chain.
func all(t *testing.T, name string, chain api.Digest, b []byte, list []api.Record, size int, behind api.Digest) {
	t.Helper()
	got, n, c := All(chain, b)
	if n != size || c != behind || len(got) != len(list) {
		t.Fatalf("%s: All: %d records, %d bytes, want %d, %d", name, len(got), n, len(list), size)
	}
	for i, r := range list {
		if got[i].Kind != r.Kind || !bytes.Equal(got[i].Data, r.Data) {
			t.Fatalf("%s: All: record %d is another one", name, i)
		}
	}
}

// put is the records' bytes one behind the other, where each ends, and the chain behind each (that ahead of the first one first).
func put(chain api.Digest, list []api.Record) (b []byte, ends []int, links []api.Digest) {
	links = append(links, chain)
	for _, r := range list {
		b = append(b, whole(chain, r)...)
		chain = chainBehind(chain, r)
		ends, links = append(ends, len(b)), append(links, chain)
	}
	return b, ends, links
}

func TestExamples(t *testing.T) {
	if n := Size(api.Record{Kind: 1, Data: []byte("abc")}); n != 13 {
		t.Errorf("Size of Kind 1, Data of 3 bytes: %d", n)
	}
	fails(t, "a byte 0", api.Digest{}, []byte{0}, api.ErrBad)
	fails(t, "nothing", api.Digest{}, nil, api.ErrMore)
	fails(t, "nothing", api.Digest{}, []byte{}, api.ErrMore)
}

func TestP81First(t *testing.T) {
	for _, n := range []uint64{0, 1, 2, 127, 128, 255, 256, 1 << 16, 1<<32 - 1, 1 << 32, 1 << 56, 0x0102030405060708, math.MaxUint64} {
		want := api.Digest(sha512.Sum512_256(binary.LittleEndian.AppendUint64(nil, n)))
		if got := First(n); got != want {
			t.Errorf("First(%d): %x, want %x", n, got, want)
		}
	}
}

func TestP81NextOfAnyRecord(t *testing.T) {
	for _, chain := range chains() {
		for _, n := range append(lengths(), most+1, 1<<14-1, 1<<14, 1<<14+1, 1<<21-1, 1<<21) {
			for _, kind := range []byte{0, 1, 2, 127, 128, 255} {
				if n > most+1 && kind > 1 {
					continue
				}
				r := rec(kind, n)
				if got := Next(chain, r); got != chainBehind(chain, r) {
					t.Errorf("Next of Kind %d, %d Data is another one", kind, n)
				}
			}
		}
	}
}

func TestP81Check(t *testing.T) {
	for kind := range 256 {
		want := api.OK
		if kind == 0 {
			want = api.ErrArg
		}
		for _, n := range lengths() {
			if err := Check(rec(byte(kind), n)); err != want {
				t.Fatalf("Check of Kind %d, %d Data: %v", kind, n, err)
			}
		}
		for _, n := range []int{most + 1, most + 2, 1 << 14, 1 << 16} {
			if err := Check(rec(byte(kind), n)); err != api.ErrArg {
				t.Fatalf("Check of Kind %d, %d Data: %v", kind, n, err)
			}
		}
	}
	if err := Check(api.Record{Kind: 5}); err != api.OK {
		t.Errorf("Check without Data: %v", err)
	}
	if err := Check(api.Record{}); err != api.ErrArg {
		t.Errorf("Check of no record: %v", err)
	}
}

func TestP81Size(t *testing.T) {
	for _, x := range []struct{ n, want int }{
		{0, 10}, {1, 11}, {126, 136}, {127, 137}, {128, 139}, {129, 140}, {most - 1, most + 10}, {most, most + 11}, {most + 1, 0}, {1 << 16, 0},
	} {
		for _, kind := range []byte{1, 255} {
			if got := Size(rec(kind, x.n)); got != x.want {
				t.Errorf("Size of Kind %d, %d Data: %d, want %d", kind, x.n, got, x.want)
			}
		}
		if got := Size(rec(0, x.n)); got != 0 {
			t.Errorf("Size of Kind 0, %d Data: %d", x.n, got)
		}
	}
}

func TestP81Bytes(t *testing.T) {
	for _, chain := range chains() {
		for _, n := range lengths() {
			for _, kind := range []byte{1, 2, 128, 255} {
				r := rec(kind, n)
				b, behind, err := Bytes(chain, r)
				if err != api.OK || !bytes.Equal(b, whole(chain, r)) || behind != chainBehind(chain, r) || len(b) != Size(r) {
					t.Fatalf("Bytes of Kind %d, %d Data: %d bytes, %v", kind, n, len(b), err)
				}
			}
		}
	}
}

func TestP81BytesOfWhatMayNotBe(t *testing.T) {
	for _, r := range []api.Record{{}, rec(0, 3), rec(0, most), rec(1, most+1), rec(255, 1<<16), rec(0, most+1)} {
		b, behind, err := Bytes(First(1), r)
		if err != api.ErrArg || len(b) != 0 || behind != (api.Digest{}) {
			t.Errorf("Bytes of Kind %d, %d Data: %d bytes, %x, %v", r.Kind, len(r.Data), len(b), behind, err)
		}
	}
}

func TestP81Same(t *testing.T) {
	abc := []byte("abc")
	for _, x := range []struct {
		a, b api.Record
		want bool
	}{
		{api.Record{}, api.Record{}, true},
		{api.Record{Kind: 1}, api.Record{Kind: 1, Data: []byte{}}, true},
		{api.Record{Kind: 1, Data: abc}, api.Record{Kind: 1, Data: []byte("abc")}, true},
		{api.Record{Kind: 1, Data: abc}, api.Record{Kind: 2, Data: abc}, false},
		{api.Record{Kind: 1, Data: abc}, api.Record{Kind: 0, Data: abc}, false},
		{api.Record{Kind: 1, Data: abc}, api.Record{Kind: 1, Data: []byte("abd")}, false},
		{api.Record{Kind: 1, Data: abc}, api.Record{Kind: 1, Data: []byte("bbc")}, false},
		{api.Record{Kind: 1, Data: abc}, api.Record{Kind: 1, Data: []byte("ab")}, false},
		{api.Record{Kind: 1, Data: abc}, api.Record{Kind: 1}, false},
		{api.Record{Kind: 1}, api.Record{Kind: 1, Data: []byte{0}}, false},
		{rec(0, most+1), rec(0, most+1), true},
		{rec(7, most+1), rec(7, most+2), false},
	} {
		if Same(x.a, x.b) != x.want || Same(x.b, x.a) != x.want {
			t.Errorf("Same of Kinds %d, %d, %d and %d Data: not %v", x.a.Kind, x.b.Kind, len(x.a.Data), len(x.b.Data), x.want)
		}
	}
}

func TestP82Read(t *testing.T) {
	for _, chain := range chains() {
		for _, n := range lengths() {
			for _, kind := range []byte{1, 2, 128, 255} {
				r := rec(kind, n)
				b := whole(chain, r)
				reads(t, "alone", chain, b, r, len(b))
				reads(t, "with more behind", chain, append(slices.Clone(b), 0, 1, 2), r, len(b))
				reads(t, "twice", chain, append(slices.Clone(b), b...), r, len(b))
			}
		}
	}
}

func TestP82ReadOfEachKind(t *testing.T) {
	for kind := range 256 {
		r := rec(byte(kind), 20)
		b := whole(First(3), r)
		if kind == 0 {
			fails(t, "Kind 0", First(3), b, api.ErrBad)
		} else {
			reads(t, "a Kind", First(3), b, r, len(b))
		}
	}
}

func TestP82WhereBytesEnd(t *testing.T) {
	for _, n := range []int{0, 1, 3, 127, 128, 300, most} {
		b := whole(First(1), rec(9, n))
		for end := range b {
			if n < most || end < 20 || end > n-20 || end%97 == 0 {
				fails(t, "an end", First(1), b[:end], api.ErrMore)
				fails(t, "an end, another chain", First(2), b[:end:end], api.ErrMore)
			}
		}
	}
}

func TestP82KindZero(t *testing.T) {
	b := whole(First(1), rec(0, 3))
	for end := 1; end <= len(b); end++ {
		fails(t, "Kind 0", First(1), b[:end], api.ErrBad)
	}
	fails(t, "Kind 0 ahead of a number that ends", First(1), []byte{0, 0xc0}, api.ErrBad)
	fails(t, "Kind 0 ahead of a number that is none", First(1), []byte{0, 0x80, 1}, api.ErrBad)
}

// anyBytes gives a record's bytes whose number stands in the bytes given: its Data are as many as n tells, its chain good.
func anyBytes(chain api.Digest, kind byte, number []byte, n int) []byte {
	b := slices.Concat([]byte{kind}, number, counted(n))
	behind := chainBehind(chain, rec(kind, n))
	return append(b, behind[:8]...)
}

func TestP82NumberThatIsNone(t *testing.T) {
	for _, x := range []struct {
		n, size int
	}{{0, 2}, {1, 2}, {3, 2}, {127, 2}, {0, 3}, {3, 3}, {128, 3}, {300, 3}, {most, 3}, {3, 4}, {300, 4}} {
		number := spelled(uint64(x.n), x.size)
		b := anyBytes(First(1), 1, number, x.n)
		for end := range len(number) + 1 {
			fails(t, "ahead of the number's end", First(1), b[:end], api.ErrMore)
		}
		for end := len(number) + 1; end <= len(b); end++ {
			fails(t, "behind the number's end", First(1), b[:end], api.ErrBad)
		}
	}
}

func TestP82AboveMaxData(t *testing.T) {
	for _, number := range [][]byte{
		spelled(most+1, 2), spelled(most+2, 2), spelled(1<<14-1, 2), spelled(1<<14, 3), spelled(1<<21-1, 3), spelled(1<<21, 4),
		{0xf8, 1, 0, 0, 0, 0}, {0xf8, 1, 0, 0, 0, 3},
		{0xff, 0x80, 0, 0, 0, 0, 0, 0, 0}, {0xff, 0x80, 0, 0, 0, 0, 0, 0, 3},
		{0xff, 1, 0, 0, 0, 0, 0, 0, 3}, {0xff, 0x7f, 0xff, 0xff, 0xff, 0xff, 0xff, 0xff, 0xff},
		{0xff, 0xff, 0xff, 0xff, 0xff, 0xff, 0xff, 0xff, 0xff},
	} {
		b := append([]byte{1}, number...)
		for end := range b {
			fails(t, "ahead of the number's end", First(1), b[:end], api.ErrMore)
		}
		fails(t, "at the number's end", First(1), b, api.ErrBad)
		fails(t, "with some Data", First(1), append(b, counted(20)...), api.ErrBad)
	}
	for _, n := range []int{most + 1, 1<<14 - 1, 1 << 14} {
		fails(t, "whole", First(1), whole(First(1), rec(1, n)), api.ErrBad)
	}
}

func TestP82AnotherChain(t *testing.T) {
	for _, n := range []int{0, 3, 128} {
		r := rec(4, n)
		b := whole(First(1), r)
		for _, chain := range []api.Digest{{}, First(0), First(2), chainBehind(First(1), r)} {
			fails(t, "another chain ahead", chain, b, api.ErrBad)
		}
		for at := len(b) - 8; at < len(b); at++ {
			for bit := range 8 {
				wrong := slices.Clone(b)
				wrong[at] ^= 1 << bit
				fails(t, "another chain told", First(1), wrong, api.ErrBad)
				fails(t, "another chain told, but not to its end", First(1), wrong[:len(b)-1], api.ErrMore)
			}
		}
		chain := First(1)
		for at := range chain {
			wrong := chain
			wrong[at] ^= 1
			fails(t, "one byte of the chain ahead", wrong, b, api.ErrBad)
		}
	}
}

func TestP82NineBytesOfTheChain(t *testing.T) {
	r := rec(4, 3)
	b := parts(r)
	behind := chainBehind(First(1), r)
	reads(t, "the chain's other bytes behind", First(1), append(slices.Clone(b), behind[:]...), r, len(b)+8)
	fails(t, "the chain's last bytes", First(1), append(slices.Clone(b), behind[24:]...), api.ErrBad)
}

func TestP82AnyByteChanged(t *testing.T) {
	r := rec(4, 40)
	b := whole(First(1), r)
	for at := range b {
		for bit := range 8 {
			wrong := slices.Clone(b)
			wrong[at] ^= 1 << bit
			if _, _, _, err := Read(First(1), wrong); err != api.ErrBad && err != api.ErrMore {
				t.Fatalf("byte %d, bit %d changed: %v", at, bit, err)
			}
			all(t, "a bit changed", First(1), wrong, nil, 0, First(1))
		}
	}
}

func TestP82All(t *testing.T) {
	list := []api.Record{rec(1, 3), rec(1, 3), rec(255, 0), {Kind: 2}, rec(3, 128), rec(1, 3)}
	b, ends, links := put(First(7), list)
	for end := range len(b) + 1 {
		k := 0
		for k < len(ends) && ends[k] <= end {
			k++
		}
		size := 0
		if k > 0 {
			size = ends[k-1]
		}
		all(t, "an end", First(7), b[:end], list[:k], size, links[k])
	}
	all(t, "more behind", First(7), append(slices.Clone(b), 0), list, len(b), links[len(list)])
	all(t, "the same again behind", First(7), slices.Concat(b, b), list, len(b), links[len(list)])
	all(t, "another chain", First(8), b, nil, 0, First(8))
	all(t, "nothing", First(8), nil, nil, 0, First(8))
	all(t, "nothing", api.Digest{}, []byte{}, nil, 0, api.Digest{})
}

func TestP82AllStopsAtTheFirstThatIsBad(t *testing.T) {
	list := []api.Record{rec(1, 3), rec(2, 4), rec(3, 5), rec(4, 6)}
	b, ends, links := put(First(7), list)
	start := 0
	for k, end := range ends {
		for at := start; at < end; at++ {
			wrong := slices.Clone(b)
			wrong[at] ^= 0x40
			all(t, "a bad one", First(7), wrong, list[:k], start, links[k])
		}
		gone := slices.Concat(b[:start], b[end:])
		all(t, "one gone", First(7), gone, list[:k], start, links[k])
		twice := slices.Concat(b[:end], b[start:])
		all(t, "one twice", First(7), twice, list[:k+1], end, links[k+1])
		start = end
	}
}

func TestP83AllOfRecordsBytes(t *testing.T) {
	d := draws(1)
	for range 40 {
		epoch := uint64(d.below(1 << 30))
		first := First(epoch)
		var list []api.Record
		var b []byte
		chain := first
		for range d.below(30) {
			r := d.record()
			p, behind, err := Bytes(chain, r)
			if err != api.OK || behind != Next(chain, r) {
				t.Fatalf("Bytes: %v", err)
			}
			list, b, chain = append(list, r), append(b, p...), behind
		}
		all(t, "records", first, b, list, len(b), chain)
	}
}

func TestP83StandsWhereItWasPut(t *testing.T) {
	list := []api.Record{rec(1, 3), rec(1, 3), rec(2, 3), rec(1, 4)}
	_, _, links := put(First(5), list)
	for i, r := range list {
		b := whole(links[i], r)
		for j, chain := range links {
			if i == j {
				reads(t, "its place", chain, b, r, len(b))
			} else {
				fails(t, "another place", chain, b, api.ErrBad)
			}
		}
	}
}

func TestWayRecordsStopWhenAsked(t *testing.T) {
	list := []api.Record{rec(1, 3), rec(2, 4), rec(3, 5)}
	b, _, links := put(First(5), list)
	it := records(First(5), b)
	for stop := range len(list) + 1 {
		n := 0
		for r, behind := range it {
			if n == stop {
				break
			}
			if !Same(r, list[n]) || behind != links[n+1] {
				t.Fatalf("record %d is another one", n)
			}
			n++
		}
		if n != stop {
			t.Fatalf("%d records, want %d", n, stop)
		}
	}
}

// spare is b with room behind it that is filled.
func spare(b []byte) []byte {
	long := append(slices.Clone(b), bytes.Repeat([]byte{0xee}, 64)...)
	return long[:len(b)]
}

func TestRuleHandedInIsNotChanged(t *testing.T) {
	for _, n := range []int{0, 3, 128, most, most + 1} {
		data := spare(counted(n))
		r := api.Record{Kind: 1, Data: data}
		Next(First(1), r)
		Check(r)
		Size(r)
		Same(r, r)
		Bytes(First(1), r)
		if want := append(counted(n), bytes.Repeat([]byte{0xee}, 64)...); !bytes.Equal(data[:n+64], want) {
			t.Errorf("%d Data: changed", n)
		}
	}
	b := whole(First(1), rec(1, 40))
	in := spare(b)
	Read(First(1), in)
	All(First(1), in)
	if !bytes.Equal(in[:len(b)+64], append(slices.Clone(b), bytes.Repeat([]byte{0xee}, 64)...)) {
		t.Error("bytes that are read: changed")
	}
}

func TestRuleSpareRoomIsNotRead(t *testing.T) {
	b := whole(First(1), rec(1, 40))
	for end := range b {
		fails(t, "the rest in the spare room", First(1), b[:end], api.ErrMore)
	}
	two, ends, links := put(First(1), []api.Record{rec(1, 3), rec(2, 4)})
	all(t, "the next in the spare room", First(1), two[:ends[0]], []api.Record{rec(1, 3)}, ends[0], links[1])
}

func TestRuleAnswersAreNew(t *testing.T) {
	list := []api.Record{rec(1, 20), rec(2, 0), rec(3, 200)}
	b, _, _ := put(First(1), list)
	r, n, behind, _ := Read(First(1), b)
	many, _, _ := All(First(1), b)
	data := counted(20)
	p, _, _ := Bytes(First(1), api.Record{Kind: 1, Data: data})
	want := slices.Clone(p)
	clear(b)
	clear(data)
	if !Same(r, list[0]) || n == 0 || behind != chainBehind(First(1), list[0]) {
		t.Error("Read keeps what it read")
	}
	for i := range list {
		if !Same(many[i], list[i]) {
			t.Error("All keeps what it read")
		}
	}
	if !bytes.Equal(p, want) {
		t.Error("Bytes keeps the Data")
	}
	for i := range many {
		d := many[i].Data[:cap(many[i].Data)]
		for j := range d {
			d[j] = 0xdd
		}
		for j := i + 1; j < len(many); j++ {
			if !Same(many[j], list[j]) {
				t.Error("two Data of one answer share memory")
			}
		}
	}
	if !Same(r, list[0]) {
		t.Error("two answers share memory")
	}
}

func TestRuleNothingIsNoData(t *testing.T) {
	for _, data := range [][]byte{nil, {}} {
		r := api.Record{Kind: 6, Data: data}
		b, behind, err := Bytes(First(1), r)
		if err != api.OK || Size(r) != 10 || len(b) != 10 || behind != Next(First(1), api.Record{Kind: 6}) {
			t.Errorf("%v: %d bytes, %v", data == nil, len(b), err)
		}
		reads(t, "no Data", First(1), b, r, 10)
	}
}

func TestT6AnyArguments(t *testing.T) {
	d := draws(2)
	for range 20000 {
		b := make([]byte, d.below(24))
		for i := range b {
			b[i] = []byte{0, 1, 2, 0x7f, 0x80, 0x81, 0xa0, 0xc0, 0xfe, 0xff}[d.below(10)]
		}
		chain := First(uint64(d.below(3)))
		r, n, behind, err := Read(chain, b)
		if err == api.OK && (n != Size(r) || behind != Next(chain, r) || !bytes.Equal(whole(chain, r), b[:n])) {
			t.Fatalf("%x: read as what it is not", b)
		}
		if err != api.OK && err != api.ErrBad && err != api.ErrMore {
			t.Fatalf("%x: %v", b, err)
		}
		list, size, c := All(chain, b)
		if (len(list) == 0) != (err != api.OK) || size > len(b) || len(list) == 0 && c != chain {
			t.Fatalf("%x: All: %d records, %d bytes", b, len(list), size)
		}
	}
}
