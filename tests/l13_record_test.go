package tests

import (
	"encoding/binary"
	"fmt"
	"hash/crc32"
	"reflect"
	"slices"
	"strings"
	"testing"

	"loop.example/g00199/impl"
)

const (
	idLetters = "abcdefghijklmnopqrstuvwxyz0123456789"
	text24    = "abcdefghijklmnopqrstuvwx"
)

// sealed is these bytes with their sum behind them.
func sealed(b string) string {
	sum := crc32.Checksum([]byte(b), crc32.MakeTable(crc32.Castagnoli))
	return b + string(binary.BigEndian.AppendUint32(nil, sum))
}

// recBytes is the text of a record, right or wrong, as far as its numbers have room in their bytes.
func recBytes(r impl.Rec) string {
	b := binary.BigEndian.AppendUint32(nil, uint32(r.Epoch))[1:]
	b = binary.BigEndian.AppendUint16(b, uint16(r.Seq))
	b = append(b, byte(r.Kind), byte(len(r.Id)))
	b = append(b, r.Id...)
	b = binary.BigEndian.AppendUint32(b, uint32(r.N))
	b = append(b, byte(len(r.Data)))
	return sealed(string(append(b, r.Data...)))
}

// hasBytes tells whether each number of a record has room in its bytes.
func hasBytes(r impl.Rec) bool {
	fits := func(n int, bits int) bool { return n >= 0 && n < 1<<bits }
	return fits(r.Epoch, 24) && fits(r.Seq, 16) && fits(r.Kind, 8) && fits(len(r.Id), 8) && fits(r.N, 32) && fits(len(r.Data), 8)
}

func sameRec(a impl.Rec, b impl.Rec) bool {
	head := a.Epoch == b.Epoch && a.Seq == b.Seq && a.Kind == b.Kind && a.Id == b.Id && a.N == b.N
	return head && string(a.Data) == string(b.Data)
}

func sameRecs(a []impl.Rec, b []impl.Rec) bool {
	return slices.EqualFunc(a, b, sameRec)
}

func recTitle(r impl.Rec) string {
	return fmt.Sprintf("epoch %d, seq %d, kind %d, id %.20q, n %d, %d bytes %.30q", r.Epoch, r.Seq, r.Kind, r.Id, r.N, len(r.Data), r.Data)
}

// checkGetRec asks for this record of its text.
func checkGetRec(t *testing.T, s string, want impl.Rec) {
	t.Helper()
	if got, ok := impl.GetRec(s); !ok || !sameRec(got, want) {
		t.Errorf("GetRec of %x: (%s), %v, not (%s)", s, recTitle(got), ok, recTitle(want))
	}
}

func checkNoRec(t *testing.T, s string) {
	t.Helper()
	if got, ok := impl.GetRec(s); ok || !sameRec(got, impl.Rec{}) {
		t.Errorf("GetRec of %.120x: (%s), %v, not the zero one and false", s, recTitle(got), ok)
	}
}

// checkRecOk asks for the text and the way back as well: of what is not right there is none, whatever its sum is.
func checkRecOk(t *testing.T, r impl.Rec, want bool) {
	t.Helper()
	if got := impl.RecOk(r); got != want {
		t.Errorf("RecOk of (%s) is %v", recTitle(r), got)
	}
	s := impl.PutRec(r)
	if !want {
		if s != "" {
			t.Errorf("PutRec of (%s) is %x", recTitle(r), s)
		}
		if hasBytes(r) {
			checkNoRec(t, recBytes(r))
		}
		return
	}
	if s != recBytes(r) || len(s) > impl.SectorLen {
		t.Errorf("PutRec of (%s) is %x, not %x", recTitle(r), s, recBytes(r))
	}
	checkGetRec(t, s, r)
}

func chunk(count int) []byte {
	return []byte(longSector(count))
}

// docKinds has of each Kind the greatest N, and the least and the most bytes of Data.
var docKinds = []struct {
	kind, topN, leastData, mostData int
}{
	{1, topNumber, 0, 0},
	{2, topNumber, 1, 24},
	{3, 0, 0, 0},
	{4, 0, 0, 0},
}

// plainRecs has a record of each Kind, and those of the longest and of the greatest fields.
func plainRecs() []impl.Rec {
	return []impl.Rec{
		{Kind: impl.RecMake, Id: "a"},
		{Epoch: 1, Seq: 2, Kind: impl.RecMake, Id: "up1", N: 60},
		{Epoch: 10000, Seq: 199, Kind: impl.RecMake, Id: "zzzzzzzz", N: topNumber},
		{Kind: impl.RecData, Id: "0", Data: []byte{0}},
		{Epoch: 256, Seq: 24, Kind: impl.RecData, Id: "up1", N: 258, Data: []byte("some data")},
		{Epoch: 10000, Seq: 199, Kind: impl.RecData, Id: "abcdefgh", N: topNumber, Data: chunk(24)},
		{Kind: impl.RecData, Id: "00000000", Data: make([]byte, 24)},
		{Kind: impl.RecDone, Id: "9"},
		{Epoch: 9999, Seq: 198, Kind: impl.RecDone, Id: "a0b1c2d3"},
		{Kind: impl.RecDrop, Id: "z"},
		{Epoch: 10000, Seq: 199, Kind: impl.RecDrop, Id: "99999999"},
	}
}

func TestConstantsOfRecords(t *testing.T) {
	kinds := []int{impl.RecMake, impl.RecData, impl.RecDone, impl.RecDrop}
	if !slices.Equal(kinds, []int{1, 2, 3, 4}) || impl.ChunkLen != 24 {
		t.Errorf("Kinds are %v, a chunk has %d bytes", kinds, impl.ChunkLen)
	}
}

func TestRecOkByEpochs(t *testing.T) {
	for _, r := range plainRecs() {
		for _, epoch := range slices.Concat(greatNumbers, []int{-1, 0, 1, 255, 256, 9999, 10000, 10001, 20000, 65536, 1<<24 - 1, 1 << 24, 1<<24 + 1, -10000}) {
			r.Epoch = epoch
			checkRecOk(t, r, epoch >= 0 && epoch <= 10000)
		}
	}
}

func TestRecOkBySeqs(t *testing.T) {
	for _, r := range plainRecs() {
		for _, seq := range slices.Concat(greatNumbers, []int{-1, 0, 1, 100, 198, 199, 200, 201, 255, 256, 300, 65535, 65536, 65537, -199}) {
			r.Seq = seq
			checkRecOk(t, r, seq >= 0 && seq <= 199)
		}
	}
}

func TestRecOkByKinds(t *testing.T) {
	for _, kind := range slices.Concat(greatNumbers, []int{-1, 0, 1, 2, 3, 4, 5, 6, 255, 256, 257, 258, -2, -4}) {
		checkRecOk(t, impl.Rec{Kind: kind, Id: "a"}, kind == 1 || kind == 3 || kind == 4)
		checkRecOk(t, impl.Rec{Kind: kind, Id: "a", N: 7}, kind == 1)
		checkRecOk(t, impl.Rec{Kind: kind, Id: "a", Data: []byte("x")}, kind == 2)
		checkRecOk(t, impl.Rec{Kind: kind, Id: "a", N: 7, Data: []byte("x")}, kind == 2)
		checkRecOk(t, impl.Rec{Kind: kind}, false)
	}
	checkRecOk(t, impl.Rec{}, false)
}

func TestRecOkByIds(t *testing.T) {
	for _, r := range plainRecs() {
		for _, id := range []string{"a", "z", "0", "9", "m", "5", "az09", "up1", "abcdefg", "abcdefgh", "01234567", "zzzzzzzz"} {
			r.Id = id
			checkRecOk(t, r, true)
		}
		for _, id := range []string{
			"", "abcdefghi", "012345678", strings.Repeat("a", 16), strings.Repeat("a", 255), strings.Repeat("a", 256), strings.Repeat("a", 257), strings.Repeat("b", 10000),
			"A", "Z", "aB", "Ab", "/", "`", "{", ":", "@", "[", "-", " ", "a b", "\x00", "a\x00", "\x7f", "\x80", "\xff", "a\xff", "é", "日", "\xc3",
		} {
			r.Id = id
			checkRecOk(t, r, false)
		}
	}
}

// Each byte, alone, as the first, in the middle and as the last.
func TestRecOkByEachByteOfAnId(t *testing.T) {
	for i := range 256 {
		c := string([]byte{byte(i)})
		good := strings.Contains(idLetters, c)
		for _, id := range []string{c, c + "a", "a" + c, c + "bcdefgh", "abcd" + c + "fgh", "abcdefg" + c} {
			checkRecOk(t, impl.Rec{Kind: impl.RecDrop, Id: id}, good)
			checkRecOk(t, impl.Rec{Kind: impl.RecData, Id: id, Data: []byte("x")}, good)
		}
		checkRecOk(t, impl.Rec{Kind: impl.RecDrop, Id: "abcdefgh" + c}, false)
	}
}

// N and Data of each Kind, also those that another Kind could have.
func TestRecOkByNumbersAndData(t *testing.T) {
	numbers := slices.Concat(greatNumbers, []int{-1, 0, 1, 2, 24, 255, 256, topNumber - 1, topNumber, topNumber + 1, 1<<31 - 1, 1 << 31, topWord, topWord + 1, topWord + 2, -topNumber})
	for _, x := range docKinds {
		for _, n := range numbers {
			for _, data := range [][]byte{nil, {}, {0}, chunk(1), chunk(2), chunk(23), chunk(24), make([]byte, 24), chunk(25), chunk(48), chunk(255), chunk(256), chunk(257), chunk(280), make([]byte, 10000)} {
				good := n >= 0 && n <= x.topN && len(data) >= x.leastData && len(data) <= x.mostData
				checkRecOk(t, impl.Rec{Kind: x.kind, Id: "up1", N: n, Data: data}, good)
				checkRecOk(t, impl.Rec{Kind: x.kind, N: n, Data: data}, false)
			}
		}
	}
}

// The bytes, in their order and widths, written out, with their sums.
func TestPutRec(t *testing.T) {
	for want, r := range map[string]impl.Rec{
		"\x00\x00\x00\x00\x00\x01\x01a\x00\x00\x00\x00\x00":                           {Kind: impl.RecMake, Id: "a"},
		"\x00\x27\x10\x00\xc7\x01\x08abcdefgh\x3b\x9a\xca\x00\x00":                    {Epoch: 10000, Seq: 199, Kind: impl.RecMake, Id: "abcdefgh", N: topNumber},
		"\x00\x01\x02\x00\x03\x02\x03up1\x00\x01\x02\x03\x02xy":                       {Epoch: 258, Seq: 3, Kind: impl.RecData, Id: "up1", N: 66051, Data: []byte("xy")},
		"\x00\x00\x00\x00\x00\x02\x010\x00\x00\x00\x00\x01\x00":                       {Kind: impl.RecData, Id: "0", Data: []byte{0}},
		"\x00\x27\x0f\x00\xc6\x03\x02z9\x00\x00\x00\x00\x00":                          {Epoch: 9999, Seq: 198, Kind: impl.RecDone, Id: "z9"},
		"\x00\x00\x01\x00\x01\x04\x0200\x00\x00\x00\x00\x00":                          {Epoch: 1, Seq: 1, Kind: impl.RecDrop, Id: "00"},
		"\x00\x27\x10\x00\xc7\x02\x08zzzzzzzz\x3b\x9a\xca\x00\x18" + text24:           {Epoch: 10000, Seq: 199, Kind: impl.RecData, Id: "zzzzzzzz", N: topNumber, Data: []byte(text24)},
		"\x00\x00\x00\x00\x00\x02\x01a\x00\x00\x00\x18\x18" + strings.ToUpper(text24): {Kind: impl.RecData, Id: "a", N: 24, Data: []byte(strings.ToUpper(text24))},
	} {
		if got := impl.PutRec(r); got != sealed(want) {
			t.Errorf("PutRec of (%s) is %x, not %x", recTitle(r), got, sealed(want))
		}
		checkGetRec(t, sealed(want), r)
	}
	whole := "\x00\x00\x01\x00\x02\x02\x01a\x00\x00\x00\x03\x02xy\x77\xbb\xb2\xb3"
	if got := impl.PutRec(impl.Rec{Epoch: 1, Seq: 2, Kind: impl.RecData, Id: "a", N: 3, Data: []byte("xy")}); got != whole {
		t.Errorf("with its sum: %x, not %x", got, whole)
	}
}

// The longest text has its place in a sector, the shortest has 17 bytes.
func TestLengthsOfRecords(t *testing.T) {
	for id := 1; id <= 8; id++ {
		for _, x := range docKinds {
			for data := x.leastData; data <= x.mostData; data++ {
				r := impl.Rec{Kind: x.kind, Id: strings.Repeat("i", id), Data: chunk(data)}
				if s := impl.PutRec(r); len(s) != 16+id+data || len(s) > impl.SectorLen {
					t.Errorf("PutRec of (%s) has %d bytes", recTitle(r), len(s))
				}
				checkRecOk(t, r, true)
			}
		}
	}
}

func TestGetRecOfBeginningsAndMore(t *testing.T) {
	checkNoRec(t, "")
	for _, r := range plainRecs() {
		s := recBytes(r)
		checkGetRec(t, s, r)
		for cut := range len(s) {
			checkNoRec(t, s[:cut])
			checkNoRec(t, s[cut+1:])
			if cut != len(s)-4 {
				checkNoRec(t, sealed(s[:cut]))
			}
			checkNoRec(t, s[:cut]+s[cut+1:])
		}
		for i := range 256 {
			c := string([]byte{byte(i)})
			checkNoRec(t, s+c)
			checkNoRec(t, c+s)
			checkNoRec(t, sealed(s[:len(s)-4]+c))
		}
		for _, more := range []string{s, "\x00\x00\x00\x00", strings.Repeat("\x00", 64-len(s)), strings.Repeat("\x00", 256), strings.Repeat("x", 10000), strings.Repeat("\x00", 1<<16)} {
			checkNoRec(t, s+more)
			checkNoRec(t, sealed(s+more))
		}
	}
}

// Noughts at the end of a sum are not noughts behind a text.
func TestGetRecOfSumsWithNoughts(t *testing.T) {
	found := 0
	for n := range 100000 {
		r := impl.Rec{Kind: impl.RecMake, Id: "a", N: n}
		s := recBytes(r)
		if !strings.HasSuffix(s, "\x00") {
			continue
		}
		found++
		checkGetRec(t, s, r)
		checkNoRec(t, strings.TrimRight(s, "\x00"))
		checkNoRec(t, s[:len(s)-1])
		checkNoRec(t, s+"\x00")
	}
	if found == 0 {
		t.Error("no sum ends with a nought")
	}
}

func TestGetRecOfTurnedBits(t *testing.T) {
	for _, r := range plainRecs() {
		s := recBytes(r)
		for i := range 8 * len(s) {
			b := []byte(s)
			b[i/8] ^= 1 << (i % 8)
			checkNoRec(t, string(b))
			for j := range i {
				b[j/8] ^= 1 << (j % 8)
				if got, ok := impl.GetRec(string(b)); ok {
					t.Fatalf("bits %d and %d of %x turned: (%s)", i, j, s, recTitle(got))
				}
				b[j/8] ^= 1 << (j % 8)
			}
		}
	}
}

// withByte is a text with this byte at a place, and with the sum of what it is then.
func withByte(s string, at int, c int) string {
	return sealed(s[:at] + string([]byte{byte(c)}) + s[at+1:len(s)-4])
}

// Each value of both lengths, with a right sum: it is a record only where it is as it was.
func TestGetRecOfOtherLengths(t *testing.T) {
	for _, r := range plainRecs() {
		s := recBytes(r)
		dataAt := 7 + len(r.Id) + 4
		for c := range 256 {
			if c != len(r.Id) {
				checkNoRec(t, withByte(s, 6, c))
			}
			if c != len(r.Data) {
				checkNoRec(t, withByte(s, dataAt, c))
			}
		}
		checkGetRec(t, withByte(s, 6, len(r.Id)), r)
		checkGetRec(t, withByte(s, dataAt, len(r.Data)), r)
	}
}

// Lengths that tell of more or of fewer bytes than a record may have, while they are there.
func TestGetRecOfLengthsThatAreThere(t *testing.T) {
	for count := range 40 {
		id := "\x00\x00\x00\x00\x00\x01" + string([]byte{byte(count)}) + strings.Repeat("a", count) + "\x00\x00\x00\x00\x00"
		r := impl.Rec{Kind: impl.RecMake, Id: strings.Repeat("a", count)}
		if count >= 1 && count <= 8 {
			checkGetRec(t, sealed(id), r)
		} else {
			checkNoRec(t, sealed(id))
		}
		data := "\x00\x00\x00\x00\x00\x02\x01a\x00\x00\x00\x00" + string([]byte{byte(count)}) + strings.Repeat("d", count)
		r = impl.Rec{Kind: impl.RecData, Id: "a", Data: []byte(strings.Repeat("d", count))}
		if count >= 1 && count <= 24 {
			checkGetRec(t, sealed(data), r)
		} else {
			checkNoRec(t, sealed(data))
		}
		// One byte more and one fewer than is told.
		checkNoRec(t, sealed(data+"d"))
		checkNoRec(t, sealed(data[:len(data)-1]))
	}
}

// The end of an Id may be the beginning of a number: by another length, with a right sum, it is another record.
func TestGetRecOfAnotherIdLength(t *testing.T) {
	r := impl.Rec{Kind: impl.RecData, Id: "a0", N: 3, Data: []byte("xy")}
	checkGetRec(t, recBytes(r), r)
	checkGetRec(t, withByte(recBytes(r), 6, 1), impl.Rec{Kind: impl.RecData, Id: "a", N: 0x30000000, Data: []byte("\x02xy")})
	// With a letter in its place the number is above 10^9, with another one behind it Data is too short, or too long.
	for _, other := range []impl.Rec{
		{Kind: impl.RecData, Id: "ab", N: 3, Data: []byte("xy")},
		{Kind: impl.RecData, Id: "a0", N: 2, Data: []byte("xy")},
		{Kind: impl.RecData, Id: "a0", N: 4, Data: []byte("xy")},
	} {
		checkGetRec(t, recBytes(other), other)
		checkNoRec(t, withByte(recBytes(other), 6, 1))
	}
}

func TestGetRecOfAnyBytes(t *testing.T) {
	d := drawer(1300)
	for range 20000 {
		s := string(d.bytes(d.draw(70)))
		checkNoRec(t, s)
		got, ok := impl.GetRec(sealed(s))
		if ok && impl.PutRec(got) != sealed(s) || !ok && !sameRec(got, impl.Rec{}) {
			t.Errorf("GetRec of %x: (%s), %v", sealed(s), recTitle(got), ok)
		}
	}
	for _, s := range []string{"a", "\x00", "\xff", strings.Repeat("\x00", 17), strings.Repeat("\x00", 48), strings.Repeat("\x00", 64), strings.Repeat("\xff", 48), strings.Repeat("\xff", 64), strings.Repeat("a", 1<<20)} {
		checkNoRec(t, s)
		checkNoRec(t, sealed(s))
	}
}

// Beside false the record is the zero one, to the last field, and what is not named has its zero value.
func TestZeroRecord(t *testing.T) {
	for _, s := range []string{"", "a", recBytes(impl.Rec{Epoch: 1, Seq: 1, Kind: 5, Id: "a", N: 1, Data: []byte("x")}), recBytes(plainRecs()[5]) + "x"} {
		got, _ := impl.GetRec(s)
		if len(got.Data) == 0 {
			got.Data = nil
		}
		if !reflect.DeepEqual(got, impl.Rec{}) {
			t.Errorf("GetRec of %x: (%s)", s, recTitle(got))
		}
	}
}

func (d *drawer) rec() impl.Rec {
	x := drawn(d, docKinds...)
	r := impl.Rec{Epoch: drawn(d, 0, 1, 9999, 10000, d.draw(10001)), Seq: drawn(d, 0, 199, d.draw(200)), Kind: x.kind, Id: d.id()}
	if x.topN > 0 {
		r.N = drawn(d, 0, 1, topNumber, topNumber-1, d.draw(1000), d.draw(topNumber+1))
	}
	r.Data = d.bytes(x.leastData + d.draw(x.mostData-x.leastData+1))
	return r
}

// Promise 13: a record that is right comes back of its sector.
func TestRecordsComeBackOfTheirSectors(t *testing.T) {
	d := drawer(13)
	for round := range 5000 {
		r := d.rec()
		checkRecOk(t, r, true)
		i := d.draw(8)
		disk, ok := impl.PutSector(impl.DiskNew(8), i, impl.PutRec(r))
		if !ok {
			t.Fatalf("round %d: (%s) has no place in a sector", round, recTitle(r))
		}
		checkGetRec(t, impl.SectorAt(disk, i), r)
		if top := impl.TopEpoch(disk); top != r.Epoch {
			t.Fatalf("round %d: TopEpoch of (%s) is %d", round, recTitle(r), top)
		}
	}
}

// What is near a record: a field of it is drawn anew, past its edge at times, and the sum is right.
func (d *drawer) nearRec() impl.Rec {
	r := d.rec()
	switch d.draw(7) {
	case 0:
		r.Epoch = d.draw(1 << 24)
	case 1:
		r.Seq = d.draw(1 << 16)
	case 2:
		r.Kind = d.draw(256)
	case 3:
		r.Kind = d.draw(6)
	case 4:
		r.Id = string(d.bytes(d.draw(12)))
	case 5:
		r.N = d.word()
	case 6:
		r.Data = d.bytes(d.draw(30))
	}
	return r
}

// docRecOk is the chapter's words, one by one.
func docRecOk(r impl.Rec) bool {
	if r.Epoch < 0 || r.Epoch > 10000 || r.Seq < 0 || r.Seq > 199 || len(r.Id) < 1 || len(r.Id) > 8 {
		return false
	}
	for i := range r.Id {
		if !strings.Contains(idLetters, r.Id[i:i+1]) {
			return false
		}
	}
	for _, x := range docKinds {
		if x.kind == r.Kind {
			return r.N >= 0 && r.N <= x.topN && len(r.Data) >= x.leastData && len(r.Data) <= x.mostData
		}
	}
	return false
}

func TestDrawnRecordsAreAsTold(t *testing.T) {
	d := drawer(131)
	good := 0
	for range 20000 {
		r := d.nearRec()
		if docRecOk(r) {
			good++
		}
		checkRecOk(t, r, docRecOk(r))
	}
	if good < 100 || good > 19000 {
		t.Errorf("%d are right", good)
	}
}

// What GetRec takes is RecOk, and its text is the same one: bytes of a record are drawn anew, with a right sum and a wrong one.
func TestWhatIsTakenHasOneText(t *testing.T) {
	d := drawer(1313)
	taken := 0
	for range 20000 {
		b := []byte(recBytes(d.rec()))
		b = b[:len(b)-4]
		for range 1 + d.draw(3) {
			b[d.draw(len(b))] = byte(drawn(&d, d.draw(256), d.draw(10), 'a'+d.draw(26)))
		}
		s := sealed(string(b))
		r, ok := impl.GetRec(s)
		if ok {
			taken++
		}
		if ok && (!impl.RecOk(r) || !docRecOk(r) || impl.PutRec(r) != s || recBytes(r) != s) || !ok && !sameRec(r, impl.Rec{}) {
			t.Fatalf("GetRec of %x: (%s), %v", s, recTitle(r), ok)
		}
		b = []byte(s)
		b[len(b)-1-d.draw(4)] ^= byte(1 + d.draw(255))
		checkNoRec(t, string(b))
	}
	if taken < 100 || taken > 19000 {
		t.Errorf("%d are taken", taken)
	}
}

// recAt is a record of a sector, of this Epoch.
func recAt(seq int, epoch int) impl.Rec {
	l := []impl.Rec{
		{Kind: impl.RecMake, Id: "up1", N: 60},
		{Kind: impl.RecData, Id: "up1", N: 24, Data: []byte("data")},
		{Kind: impl.RecDone, Id: "a"},
		{Kind: impl.RecDrop, Id: "abcdefgh"},
	}
	r := l[seq%len(l)]
	r.Seq, r.Epoch = seq, epoch
	return r
}

// recsOf has a record for each Epoch, with the Seqs from 0 on.
func recsOf(epochs ...int) []impl.Rec {
	l := []impl.Rec{}
	for i, epoch := range epochs {
		l = append(l, recAt(i, epoch))
	}
	return l
}

func textsOf(l []impl.Rec) []string {
	out := []string{}
	for _, r := range l {
		out = append(out, recBytes(r))
	}
	return out
}

// readDisk has these sectors as they are read, and empty ones as they are sure.
func readDisk(sectors ...string) impl.Disk {
	return impl.Disk{Now: sectors, Sure: make([]string, len(sectors))}
}

func checkScan(t *testing.T, d impl.Disk, want []impl.Rec) {
	t.Helper()
	if got := impl.ScanRecs(d); !sameRecs(got, want) {
		t.Errorf("ScanRecs of (%s) is %v, not %v", diskTitle(d), got, want)
	}
}

func checkTop(t *testing.T, d impl.Disk, want int) {
	t.Helper()
	if got := impl.TopEpoch(d); got != want {
		t.Errorf("TopEpoch of (%s) is %d, not %d", diskTitle(d), got, want)
	}
}

// noRecs are sectors that are no records.
func noRecs() []string {
	s := recBytes(recAt(0, 3))
	long := recBytes(impl.Rec{Kind: impl.RecMake, Id: "abcdefghi"})
	return []string{"", "a", s[1:], s[:len(s)-1], s + "\x00", "\x00" + s, strings.Repeat("\x00", 64), longSector(64), s + s, long, recBytes(impl.Rec{Kind: 5, Id: "a"}), recBytes(impl.Rec{Epoch: 10001, Kind: 1, Id: "a"})}
}

func TestScanRecs(t *testing.T) {
	checkScan(t, impl.Disk{}, nil)
	checkScan(t, impl.DiskNew(1), nil)
	checkScan(t, impl.DiskNew(200), nil)
	for _, epochs := range [][]int{{0}, {10000}, {7}, {0, 0, 0}, {0, 1, 2, 3}, {5, 5, 6, 6, 10000, 10000}, {0, 10000}, {10000, 10000, 10000, 10000}} {
		l := recsOf(epochs...)
		checkScan(t, readDisk(textsOf(l)...), l)
		checkScan(t, readDisk(append(textsOf(l), "", "", "")...), l)
		checkScan(t, impl.FlushDisk(readDisk(textsOf(l)...)), l)
	}
}

func TestScanRecsOfEachRecord(t *testing.T) {
	for _, r := range plainRecs() {
		r.Seq = 0
		checkScan(t, readDisk(recBytes(r)), []impl.Rec{r})
		checkTop(t, readDisk(recBytes(r)), r.Epoch)
	}
}

func TestScanRecsOfManySectors(t *testing.T) {
	epochs := []int{}
	for i := range 200 {
		epochs = append(epochs, i/3)
	}
	l := recsOf(epochs...)
	all := textsOf(l)
	for _, count := range []int{0, 1, 2, 24, 25, 199, 200} {
		checkScan(t, readDisk(all[:count]...), l[:count])
		checkTop(t, readDisk(all[:count]...), (count+2)/3-1)
		checkScan(t, readDisk(append(slices.Clone(all[:count]), make([]string, 200-count)...)...), l[:count])
	}
}

// One that is no record, at each place: what lies ahead of it is all.
func TestScanRecsEndsAtNoRecord(t *testing.T) {
	l := recsOf(1, 1, 2, 2, 9)
	for at := range l {
		for _, s := range noRecs() {
			checkScan(t, readDisk(sectorPut(textsOf(l), at, s)...), l[:at])
		}
	}
}

func TestScanRecsEndsAtAnotherSeq(t *testing.T) {
	l := recsOf(4, 4, 4, 4, 4)
	for at := range l {
		for _, seq := range []int{0, 1, 2, 3, 4, 5, at - 1, at + 1, at + 16, 199} {
			if seq < 0 {
				continue
			}
			want := l[:at]
			if seq == at {
				want = l
			}
			r := l[at]
			r.Seq = seq
			checkScan(t, readDisk(sectorPut(textsOf(l), at, recBytes(r))...), want)
			if seq < len(l) && seq != at {
				checkScan(t, readDisk(sectorPut(textsOf(l), at, recBytes(l[seq]))...), want)
			}
		}
	}
	// All of them moved by one sector.
	checkScan(t, readDisk(textsOf(l)[1:]...), nil)
	checkScan(t, readDisk(append([]string{""}, textsOf(l)...)...), nil)
	checkScan(t, readDisk(append(textsOf(l)[:1], textsOf(l)...)...), l[:1])
}

func TestScanRecsEndsWhereEpochsFall(t *testing.T) {
	for _, x := range []struct {
		epochs []int
		count  int
	}{
		{[]int{1, 0}, 1},
		{[]int{1, 1, 0, 0}, 2},
		{[]int{1, 2, 1, 1}, 2},
		{[]int{1, 3, 2, 3}, 2},
		{[]int{0, 5, 4, 9}, 2},
		{[]int{0, 0, 1, 0}, 3},
		{[]int{2, 2, 3, 2, 9}, 3},
		{[]int{10000, 9999, 10000}, 1},
		{[]int{10000, 10000, 0}, 2},
		{[]int{9999, 10000, 9999}, 2},
		{[]int{256, 255}, 1},
		{[]int{255, 256}, 2},
		{[]int{0, 10000, 10000, 9999}, 3},
		{[]int{3, 4, 5, 4, 5, 6}, 3},
	} {
		l := recsOf(x.epochs...)
		checkScan(t, readDisk(textsOf(l)...), l[:x.count])
	}
}

// The records of one disk are read by Now alone, of a Disk that is not DiskOk, too.
func TestScanRecsReadsNow(t *testing.T) {
	l := recsOf(1, 2, 3)
	all := textsOf(l)
	for _, sure := range [][]string{nil, {}, {""}, all[:1], all, {"a", "b", "c"}, manySectors(201, "s"), {longSector(65)}, textsOf(recsOf(9, 9, 9))} {
		d := impl.Disk{Now: all, Sure: sure}
		checkScan(t, d, l)
		checkTop(t, d, 3)
		for _, now := range [][]string{nil, {""}, {"", "", ""}, {"a", all[0], all[0]}} {
			checkScan(t, impl.Disk{Now: now, Sure: sure}, nil)
		}
		checkTop(t, impl.Disk{Sure: sure}, -1)
		checkTop(t, impl.Disk{Now: make([]string, 3), Sure: sure}, -1)
	}
	// A sector that is too long is no record; what is behind the last Seq is none of the first ones.
	checkScan(t, readDisk(all[0], longSector(65), all[2]), l[:1])
	checkTop(t, readDisk(all[0], longSector(65), all[1]), 2)
	epochs := slices.Repeat([]int{5}, 200)
	many := recsOf(epochs...)
	for _, more := range []string{"", recBytes(recAt(199, 6)), recBytes(recAt(0, 6)), recBytes(recAt(200, 6))} {
		checkScan(t, readDisk(append(textsOf(many), more)...), many)
	}
	checkTop(t, readDisk(append(textsOf(many), recBytes(recAt(0, 6)))...), 6)
	for _, d := range wrongDisks() {
		checkScan(t, d, nil)
		checkTop(t, d, -1)
	}
}

func TestTopEpoch(t *testing.T) {
	checkTop(t, impl.Disk{}, -1)
	checkTop(t, impl.DiskNew(1), -1)
	checkTop(t, impl.DiskNew(200), -1)
	checkTop(t, readDisk(noRecs()...), -1)
	for _, epoch := range []int{0, 1, 255, 256, 9999, 10000} {
		s := recBytes(recAt(0, epoch))
		checkTop(t, readDisk(s), epoch)
		checkTop(t, readDisk("", "", s), epoch)
		checkTop(t, readDisk(s, "", ""), epoch)
		checkTop(t, readDisk("x", s, "y", s, "z"), epoch)
		checkTop(t, readDisk(append(noRecs(), s)...), epoch)
		checkTop(t, readDisk(append(make([]string, 199), s)...), epoch)
		checkTop(t, readDisk("", recBytes(recAt(199, epoch)), recBytes(recAt(0, 0))), epoch)
	}
	for _, x := range []struct {
		epochs []int
		top    int
	}{
		{[]int{0, 0, 0}, 0},
		{[]int{1, 2, 3}, 3},
		{[]int{3, 2, 1}, 3},
		{[]int{1, 3, 2}, 3},
		{[]int{9, 1}, 9},
		{[]int{0, 10000, 0}, 10000},
		{[]int{1, 1, 2, 1, 9}, 9},
	} {
		checkTop(t, readDisk(textsOf(recsOf(x.epochs...))...), x.top)
	}
}

// docScan is the chapter's words, by texts that are written here.
func docScan(d impl.Disk, byText map[string]impl.Rec) ([]impl.Rec, int) {
	out, top, going := []impl.Rec{}, -1, true
	for i, s := range d.Now {
		r, ok := byText[s]
		if ok && r.Epoch > top {
			top = r.Epoch
		}
		going = going && ok && r.Seq == i && (i == 0 || r.Epoch >= out[i-1].Epoch)
		if going {
			out = append(out, r)
		}
	}
	return out, top
}

func TestDrawnDisksAreScannedAsTold(t *testing.T) {
	d := drawer(1331)
	lengths := map[int]int{}
	for range 4000 {
		byText := map[string]impl.Rec{}
		epoch := drawn(&d, 0, 1, 9990, d.draw(10001))
		disk := impl.DiskNew(d.draw(12))
		for i := range disk.Now {
			if d.draw(3) == 0 {
				epoch = min(10000, epoch+d.draw(3))
			}
			r := d.rec()
			r.Seq, r.Epoch = i, epoch
			switch d.draw(24) {
			case 0:
				r.Seq = d.draw(12)
			case 1:
				r.Epoch = max(0, epoch-d.draw(3))
			case 2:
				disk.Now[i] = d.sector()
				continue
			}
			disk.Now[i] = recBytes(r)
			byText[disk.Now[i]] = r
		}
		l, top := docScan(disk, byText)
		lengths[len(l)]++
		checkScan(t, disk, l)
		checkTop(t, disk, top)
	}
	if len(lengths) < 8 {
		t.Errorf("lengths are %v", lengths)
	}
}

// A disk that is written one behind the other is read as it was written, behind a crash as far as it was kept.
func TestWhatIsWrittenIsScanned(t *testing.T) {
	d := drawer(133)
	for range 200 {
		count := drawn(&d, 1, 2, 5, 20, 200)
		disk, l, epoch := impl.DiskNew(count), []impl.Rec{}, d.draw(5)
		for i := range count {
			epoch += d.draw(2)
			r := d.rec()
			r.Seq, r.Epoch = i, epoch
			l = append(l, r)
			disk, _ = impl.PutSector(disk, i, impl.PutRec(r))
		}
		checkScan(t, disk, l)
		checkTop(t, disk, epoch)
		checkScan(t, impl.FallDisk(impl.FlushDisk(disk), nil), l)
		kept := d.kept(count)
		whole := 0
		for whole < len(kept) && kept[whole] {
			whole++
		}
		checkScan(t, impl.FallDisk(disk, kept), l[:whole])
	}
}

// turnData changes each byte of a record's Data, those of its spare room, too.
func turnData(r impl.Rec) {
	turnAll(r.Data[:cap(r.Data)])
}

func TestPuttingARecordLeavesItAlone(t *testing.T) {
	for _, r := range slices.Concat(plainRecs(), []impl.Rec{{Kind: 5, Id: "a", Data: chunk(3)}, {Kind: 2, Id: "a", Data: chunk(25)}, {Kind: 1, Id: "a", Data: chunk(1)}}) {
		for _, spare := range []int{0, 1, 30} {
			data, all := roomy(string(r.Data), spare)
			kept := slices.Clone(all)
			arg := r
			arg.Data = data
			s, want := impl.PutRec(arg), impl.PutRec(r)
			if impl.RecOk(arg) != impl.RecOk(r) || s != want {
				t.Errorf("(%s) with %d spare: %x", recTitle(r), spare, s)
			}
			if !slices.Equal(all, kept) {
				t.Errorf("(%s) with %d spare: Data is written", recTitle(r), spare)
			}
			turnAll(all)
			if s != want {
				t.Errorf("(%s) with %d spare: the text shares its memory", recTitle(r), spare)
			}
		}
	}
}

// What is done to the Data of one answer is seen in no other, and not in the text.
func TestRecordsOfTwoCallsAreApart(t *testing.T) {
	for _, r := range plainRecs() {
		s := recBytes(r)
		kept := strings.Clone(s)
		one, _ := impl.GetRec(s)
		two, _ := impl.GetRec(s)
		turnData(one)
		if !sameRec(two, r) || s != kept {
			t.Errorf("GetRec of %x: two answers share memory", s)
		}
		_ = append(two.Data, "more"...)
		checkGetRec(t, s, r)
	}
}

func TestRecordsOfOneScanAreApart(t *testing.T) {
	l := []impl.Rec{}
	for i := range 12 {
		l = append(l, impl.Rec{Epoch: i, Seq: i, Kind: impl.RecData, Id: "a", N: 24 * i, Data: chunk(1 + 2*i)})
	}
	for turned := range l {
		d := readDisk(textsOf(l)...)
		got := impl.ScanRecs(d)
		turnData(got[turned])
		_ = append(got[turned].Data, strings.Repeat("more", 100)...)
		for i, r := range got {
			if i != turned && !sameRec(r, l[i]) {
				t.Errorf("record %d is changed with the record %d", i, turned)
			}
		}
		if !slices.Equal(d.Now, textsOf(l)) {
			t.Errorf("the disk is changed with the record %d", turned)
		}
		checkScan(t, d, l)
	}
	// One text in many sectors, each record with memory of its own.
	s := recBytes(impl.Rec{Kind: impl.RecData, Id: "a", Data: chunk(24)})
	one := impl.ScanRecs(readDisk(s, s))
	two := impl.ScanRecs(readDisk(s, s))
	turnData(one[0])
	if !sameRec(two[0], impl.Rec{Kind: impl.RecData, Id: "a", Data: chunk(24)}) {
		t.Error("two scans share memory")
	}
}

func TestScanningLeavesTheDiskAlone(t *testing.T) {
	disks := slices.Concat(goodDisks(), wrongDisks(), []impl.Disk{readDisk(textsOf(recsOf(1, 1, 2, 1, 9))...), readDisk(textsOf(recsOf(0, 5, 7))...)})
	for _, d := range disks {
		for _, spare := range []int{0, 1, 2, 40} {
			now, allNow := roomySectors(d.Now, spare)
			sure, allSure := roomySectors(d.Sure, spare)
			// A record behind the last sector is none of the disk.
			for i := len(now); i < len(allNow); i++ {
				allNow[i] = recBytes(recAt(i%200, 10000))
			}
			kept := slices.Concat(allNow, allSure)
			arg := impl.Disk{Now: now, Sure: sure}
			checkScan(t, arg, impl.ScanRecs(d))
			checkTop(t, arg, impl.TopEpoch(d))
			if !slices.Equal(slices.Concat(allNow, allSure), kept) {
				t.Errorf("(%s) with %d spare is written", diskTitle(d), spare)
			}
			got, want := impl.ScanRecs(arg), impl.ScanRecs(d)
			turnSectors(allNow)
			turnSectors(allSure)
			if !sameRecs(got, want) {
				t.Errorf("(%s) with %d spare: the records share its memory", diskTitle(d), spare)
			}
		}
	}
}

func TestRecordsAnswerAlikeAgain(t *testing.T) {
	for range 3 {
		for _, r := range plainRecs() {
			checkRecOk(t, r, true)
			checkNoRec(t, recBytes(r)+"x")
			checkRecOk(t, impl.Rec{Kind: r.Kind, Id: "A"}, false)
		}
		l := recsOf(1, 2, 2, 1)
		checkScan(t, readDisk(textsOf(l)...), l[:3])
		checkTop(t, readDisk(textsOf(l)...), 2)
		checkScan(t, impl.DiskNew(4), nil)
		checkTop(t, impl.DiskNew(4), -1)
	}
}
