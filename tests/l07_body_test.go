package tests

import (
	"bytes"
	"fmt"
	"math"
	"slices"
	"strings"
	"testing"

	"loop.example/g00199/impl"
)

// topWord is the greatest number of four bytes.
const topWord = 1<<32 - 1

// told is a number, and its bytes, as hex digits.
type told struct {
	n      int
	digits string
}

var toldIds = []told{
	{math.MinInt, "0000"}, {-65536, "0000"}, {-2, "0000"}, {-1, "0000"}, {0, "0000"}, {1, "0001"}, {255, "00ff"}, {256, "0100"}, {0x1234, "1234"}, {32768, "8000"},
	{65534, "fffe"}, {65535, "ffff"}, {65536, "0000"}, {65537, "0001"}, {2*65536 + 0x1234, "1234"}, {1 << 32, "0000"}, {math.MaxInt, "ffff"},
}

var toldWords = []told{
	{math.MinInt, "00000000"}, {-1 << 32, "00000000"}, {-2, "00000000"}, {-1, "00000000"}, {0, "00000000"}, {1, "00000001"}, {65536, "00010000"},
	{0x12345678, "12345678"}, {1<<31 - 2, "7ffffffe"}, {1<<31 - 1, "7fffffff"}, {1 << 31, "80000000"}, {1<<31 + 1, "80000001"}, {topWord - 1, "fffffffe"},
	{topWord, "ffffffff"}, {1 << 32, "00000000"}, {1<<32 + 7, "00000007"}, {3<<32 + 0x12345678, "12345678"}, {1 << 62, "00000000"}, {math.MaxInt, "ffffffff"},
}

func checkPutSettings(t *testing.T, l []impl.Setting, digits string) {
	t.Helper()
	if got := impl.PutSettings(l); !bytes.Equal(got, hexBytes(t, digits)) {
		t.Errorf("PutSettings of %v: %x, not %s", l, got, digits)
	}
}

func checkGetSettings(t *testing.T, b []byte, want []impl.Setting, ok bool) {
	t.Helper()
	if got, there := impl.GetSettings(b); !slices.Equal(got, want) || there != ok {
		t.Errorf("GetSettings of %x: %v, %v, not %v, %v", b, got, there, want, ok)
	}
}

func TestPutSettings(t *testing.T) {
	checkPutSettings(t, nil, "")
	checkPutSettings(t, []impl.Setting{}, "")
	checkPutSettings(t, []impl.Setting{{}}, "0000 00000000")
	checkPutSettings(t, []impl.Setting{{Id: 4, Value: 65535}}, "0004 0000ffff")
	checkPutSettings(t, []impl.Setting{{Id: 0x0102, Value: 0x03040506}}, "0102 03040506")
	checkPutSettings(t, []impl.Setting{{Id: 4, Value: 65535}, {Id: 1, Value: 0}}, "0004 0000ffff 0001 00000000")
	checkPutSettings(t, []impl.Setting{{Id: 3, Value: 100}, {Id: 3, Value: 100}, {Id: 2, Value: 1}}, "0003 00000064 0003 00000064 0002 00000001")
	checkPutSettings(t, []impl.Setting{{Id: -1, Value: 65536}, {Id: 65536, Value: -1}, {Id: 65535, Value: topWord}}, "0000 00010000 0000 00000000 ffff ffffffff")
}

// Each number of a setting is put by itself: what is wrong in one of them stays out of the other, and of the settings beside it.
func TestPutSettingsAtTheEdges(t *testing.T) {
	for _, id := range toldIds {
		for _, value := range toldWords {
			s := impl.Setting{Id: id.n, Value: value.n}
			one := id.digits + value.digits
			checkPutSettings(t, []impl.Setting{s}, one)
			checkPutSettings(t, []impl.Setting{{Id: 5, Value: 6}, s, s, {Id: 7, Value: 8}}, "000500000006"+one+one+"000700000008")
		}
	}
}

func TestGetSettings(t *testing.T) {
	one, two := impl.Setting{Id: 0x0102, Value: 0x03040506}, impl.Setting{Id: 0xfffe, Value: 0xfdfcfbfa}
	b := hexBytes(t, "0102 03040506 fffe fdfcfbfa 0000 00000000 ffff ffffffff")
	for length := range 20 {
		switch length {
		case 0:
			checkGetSettings(t, b[:0], nil, true)
		case 6:
			checkGetSettings(t, b[:6], []impl.Setting{one}, true)
		case 12:
			checkGetSettings(t, b[:12], []impl.Setting{one, two}, true)
		case 18:
			checkGetSettings(t, b[:18], []impl.Setting{one, two, {}}, true)
		default:
			checkGetSettings(t, b[:length], nil, false)
			checkGetSettings(t, slices.Clip(slices.Clone(b[:length])), nil, false)
		}
	}
	checkGetSettings(t, nil, nil, true)
	checkGetSettings(t, b, []impl.Setting{one, two, {}, {Id: 65535, Value: topWord}}, true)
	for length := range 3000 {
		if l, ok := impl.GetSettings(make([]byte, length)); ok != (length%6 == 0) || ok && len(l) != length/6 || !ok && len(l) != 0 {
			t.Errorf("GetSettings of %d bytes: %d settings, %v", length, len(l), ok)
		}
	}
}

func (d *drawer) word() int {
	return d.draw(1<<16)<<16 | d.draw(1<<16)
}

func (d *drawer) bytes(n int) []byte {
	b := make([]byte, n)
	for i := range b {
		b[i] = byte(d.draw(256))
	}
	return b
}

func (d *drawer) setting() impl.Setting {
	ids, values := []int{0, 1, 255, 256, 65535, d.draw(1 << 16)}, []int{0, 1, 1<<31 - 1, 1 << 31, topWord, d.word(), d.word()}
	return impl.Setting{Id: ids[d.draw(len(ids))], Value: values[d.draw(len(values))]}
}

// Settings within their bounds come back of their bytes, and these of them.
func TestSettingsComeBackOfTheirBytes(t *testing.T) {
	d := drawer(7)
	for range 2000 {
		l := []impl.Setting{}
		for range d.draw(30) {
			l = append(l, d.setting())
		}
		b := impl.PutSettings(l)
		if len(b) != 6*len(l) {
			t.Errorf("PutSettings of %d settings: %d bytes", len(l), len(b))
		}
		checkGetSettings(t, b, l, true)
		drawn := d.bytes(6 * d.draw(30))
		back, ok := impl.GetSettings(drawn)
		if got := impl.PutSettings(back); !ok || !bytes.Equal(got, drawn) {
			t.Errorf("%x come back as %x, %v", drawn, got, ok)
		}
	}
}

// Settings past their bounds come back modulo, those below 0 as 0.
func TestSettingsPastTheirBounds(t *testing.T) {
	for x, want := range map[impl.Setting]impl.Setting{
		{Id: 65536, Value: 1 << 32}:           {},
		{Id: 65537, Value: 1<<32 + 1}:         {Id: 1, Value: 1},
		{Id: -1, Value: 9}:                    {Value: 9},
		{Id: 9, Value: -1}:                    {Id: 9},
		{Id: -65535, Value: -topWord}:         {},
		{Id: math.MaxInt, Value: math.MaxInt}: {Id: 65535, Value: topWord},
		{Id: math.MinInt, Value: math.MinInt}: {},
	} {
		checkGetSettings(t, impl.PutSettings([]impl.Setting{x}), []impl.Setting{want}, true)
	}
}

func TestPutGoAway(t *testing.T) {
	for _, last := range toldWords {
		for _, code := range toldWords {
			want := hexBytes(t, last.digits+code.digits)
			if got := impl.PutGoAway(last.n, code.n); !bytes.Equal(got, want) {
				t.Errorf("PutGoAway of %d, %d: %x, not %x", last.n, code.n, got, want)
			}
		}
	}
}

func checkGoAway(t *testing.T, b []byte, last int, code int, ok bool) {
	t.Helper()
	if l, c, there := impl.GetGoAway(b); l != last || c != code || there != ok {
		t.Errorf("GetGoAway of %x: %d, %d, %v, not %d, %d, %v", b, l, c, there, last, code, ok)
	}
}

func TestGetGoAway(t *testing.T) {
	for _, x := range []struct {
		digits     string
		last, code int
	}{
		{"00000000 00000000", 0, 0},
		{"00000007 00000001", 7, 1},
		{"01020304 05060708", 0x01020304, 0x05060708},
		{"7fffffff ffffffff", topStream, topWord},
		{"80000000 00000000", 0, 0},
		{"80000000 80000000", 0, 1 << 31},
		{"80000007 00000001", 7, 1},
		{"ffffffff 7fffffff", topStream, 1<<31 - 1},
		{"ffffffff ffffffff", topStream, topWord},
		{"fffffffe 80000001", topStream - 1, 1<<31 + 1},
	} {
		b := hexBytes(t, x.digits)
		checkGoAway(t, b, x.last, x.code, true)
		for _, behind := range []string{"x", "\xff", "\x00\x00\x00\x00", strings.Repeat("told why", 120)} {
			checkGoAway(t, append(slices.Clone(b), behind...), x.last, x.code, true)
		}
		for cut := range 8 {
			checkGoAway(t, b[:cut], 0, 0, false)
			checkGoAway(t, slices.Clip(slices.Clone(b[:cut])), 0, 0, false)
		}
	}
	checkGoAway(t, nil, 0, 0, false)
}

// Numbers come back of what is put; the first one without its highest bit.
func TestGoAwayComesBack(t *testing.T) {
	checkGoAway(t, impl.PutGoAway(topStream, topWord), topStream, topWord, true)
	checkGoAway(t, impl.PutGoAway(1<<31, 1<<31), 0, 1<<31, true)
	checkGoAway(t, impl.PutGoAway(topWord, 1<<32), topStream, 0, true)
	checkGoAway(t, impl.PutGoAway(1<<32, topWord), 0, topWord, true)
	checkGoAway(t, impl.PutGoAway(-1, -1), 0, 0, true)
	checkGoAway(t, impl.PutGoAway(-1, 5), 0, 5, true)
	checkGoAway(t, impl.PutGoAway(5, -1), 5, 0, true)
	d := drawer(77)
	for range 3000 {
		last, code := d.word(), d.word()
		checkGoAway(t, impl.PutGoAway(last, code), last%(1<<31), code, true)
	}
}

func checkWindow(t *testing.T, b []byte, n int, ok bool) {
	t.Helper()
	if got, there := impl.WindowOf(b); got != n || there != ok {
		t.Errorf("WindowOf of %x: %d, %v, not %d, %v", b, got, there, n, ok)
	}
}

func TestWindowOf(t *testing.T) {
	for _, x := range []struct {
		digits string
		n      int
		ok     bool
	}{
		{"00000000", 0, false}, {"80000000", 0, false}, {"00000001", 1, true}, {"80000001", 1, true}, {"00000100", 256, true}, {"80000100", 256, true},
		{"01020304", 0x01020304, true}, {"81020304", 0x01020304, true}, {"40000000", 1 << 30, true}, {"c0000000", 1 << 30, true},
		{"0000ffff", 65535, true}, {"7ffffffe", 1<<31 - 2, true}, {"7fffffff", 1<<31 - 1, true}, {"ffffffff", 1<<31 - 1, true},
	} {
		checkWindow(t, hexBytes(t, x.digits), x.n, x.ok)
	}
	d := drawer(777)
	for range 3000 {
		n := d.word()
		checkWindow(t, impl.PutBig(nil, n, 4), n%(1<<31), n%(1<<31) != 0)
	}
}

func TestWindowOfOtherLengths(t *testing.T) {
	for _, fill := range []byte{0, 1, 0x7f, 0x80, 0xff} {
		for _, length := range []int{0, 1, 2, 3, 5, 6, 7, 8, 9, 12, 1000, 1001} {
			b := bytes.Repeat([]byte{fill}, length)
			checkWindow(t, b, 0, false)
			// What lies behind the list would make it four bytes.
			roomyOne, _ := roomy(string(b), 4)
			checkWindow(t, roomyOne, 0, false)
		}
	}
	checkWindow(t, nil, 0, false)
	checkWindow(t, []byte{0, 0, 0, 1, 0}, 0, false)
	checkWindow(t, []byte{0, 0, 0, 0, 1}, 0, false)
}

// padEdges are numbers of bytes of padding, and which of them is taken.
var padEdges = []struct{ n, taken int }{
	{math.MinInt, 0}, {-256, 0}, {-255, 0}, {-2, 0}, {-1, 0}, {0, 0}, {1, 1}, {2, 2}, {3, 3}, {127, 127}, {128, 128}, {254, 254}, {255, 255},
	{256, 255}, {257, 255}, {511, 255}, {512, 255}, {1000, 255}, {1 << 32, 255}, {1<<32 + 1, 255}, {math.MaxInt, 255},
}

func TestPad(t *testing.T) {
	for _, data := range []string{"", "\x00", "a", "ab", "\xff\x00\xff", "\x05abcde", strings.Repeat("d", 255), strings.Repeat("e", 1000), strings.Repeat("f", 5000)} {
		for _, edge := range padEdges {
			want := string([]byte{byte(edge.taken)}) + data + strings.Repeat("\x00", edge.taken)
			if got := impl.Pad([]byte(data), edge.n); string(got) != want {
				t.Errorf("Pad of %d bytes with %d: %d bytes, %.20x, not %d bytes, %.20x", len(data), edge.n, len(got), got, len(want), want)
			}
		}
	}
	for _, edge := range padEdges {
		if got := impl.Pad(nil, edge.n); string(got) != string([]byte{byte(edge.taken)})+strings.Repeat("\x00", edge.taken) {
			t.Errorf("Pad of nil with %d: %x", edge.n, got)
		}
	}
}

func checkUnpad(t *testing.T, f impl.Frame, want string) {
	t.Helper()
	if got, ok := impl.Unpad(f); !ok || string(got) != want {
		t.Errorf("Unpad of %s, %.20x: %.20x, %v, not %.20x", frameTitle(f), f.Body, got, ok, want)
	}
}

func checkNoUnpad(t *testing.T, f impl.Frame) {
	t.Helper()
	if got, ok := impl.Unpad(f); ok || len(got) != 0 {
		t.Errorf("Unpad of %s, %.20x: %.20x, %v, not nothing", frameTitle(f), f.Body, got, ok)
	}
}

const bothFlags = impl.FlagPad | impl.FlagPrio

// otherKinds are kinds that are neither FrData nor FrHeaders.
var otherKinds = []int{
	impl.FrPriority, impl.FrReset, impl.FrSettings, impl.FrPush, impl.FrPing, impl.FrGoAway, impl.FrWindow, impl.FrMore, 10, 128, 255,
}

// Without FlagPad a Body is as it is, and only of FrHeaders is there a priority ahead of it.
func TestUnpadWithoutPadding(t *testing.T) {
	for _, body := range []string{"", "\x00", "\x01", "\xff", "a", "1234", "12345", "123456", "\x0512345", "\x03ab\x00\x00\x00", strings.Repeat("\xff", 1000)} {
		for flags := range 256 {
			if flags&impl.FlagPad != 0 {
				continue
			}
			for _, kind := range append([]int{impl.FrData}, otherKinds...) {
				checkUnpad(t, impl.Frame{Kind: kind, Flags: flags, Stream: 1, Body: []byte(body)}, body)
			}
			head := impl.Frame{Kind: impl.FrHeaders, Flags: flags, Stream: 1, Body: []byte(body)}
			switch {
			case flags&impl.FlagPrio == 0:
				checkUnpad(t, head, body)
			case len(body) < 5:
				checkNoUnpad(t, head)
			default:
				checkUnpad(t, head, body[5:])
			}
		}
	}
}

func TestUnpad(t *testing.T) {
	for _, x := range []struct {
		body, want string
		ok         bool
	}{
		{"", "", false}, {"\x00", "", true}, {"\x01", "", false}, {"\x02", "", false}, {"\xff", "", false},
		{"\x00a", "a", true}, {"\x01a", "", true}, {"\x02a", "", false}, {"\x00\x00", "\x00", true}, {"\x01\x00", "", true},
		{"\x00abc", "abc", true}, {"\x01abc", "ab", true}, {"\x02abc", "a", true}, {"\x03abc", "", true}, {"\x04abc", "", false}, {"\x05abc", "", false},
		{"\x03ab\x00\x00\x00", "ab", true}, {"\x05ab\x00\x00\x00", "", true}, {"\x06ab\x00\x00\x00", "", false},
		{"\xff" + strings.Repeat("p", 254), "", false}, {"\xff" + strings.Repeat("p", 255), "", true}, {"\xffd" + strings.Repeat("p", 255), "d", true},
		{"\x80" + strings.Repeat("p", 127), "", false}, {"\x80" + strings.Repeat("p", 128), "", true}, {"\x80\x81" + strings.Repeat("p", 128), "\x81", true},
	} {
		// FlagPrio means something of FrHeaders alone; each other flag nothing at all.
		for _, kind := range append([]int{impl.FrData, impl.FrHeaders}, otherKinds...) {
			for _, flags := range []int{impl.FlagPad, impl.FlagPad | 1, impl.FlagPad | 4, 255, bothFlags} {
				if kind == impl.FrHeaders {
					flags &^= impl.FlagPrio
				}
				f := impl.Frame{Kind: kind, Flags: flags, Stream: 1, Body: []byte(x.body)}
				if x.ok {
					checkUnpad(t, f, x.want)
				} else {
					checkNoUnpad(t, f)
				}
			}
		}
	}
}

func TestUnpadOfAPriority(t *testing.T) {
	for _, x := range []struct {
		flags      int
		body, want string
		ok         bool
	}{
		{impl.FlagPrio, "", "", false}, {impl.FlagPrio, "1234", "", false}, {impl.FlagPrio, "12345", "", true}, {impl.FlagPrio, "123456", "6", true},
		{impl.FlagPrio, "\x01234", "", false}, {impl.FlagPrio, "\x0523456789", "6789", true}, {impl.FlagPrio, "\xff2345", "", true},
		{bothFlags, "", "", false}, {bothFlags, "\x00", "", false}, {bothFlags, "\x01", "", false}, {bothFlags, "\x05", "", false},
		// 4, 5 and 6 bytes behind the byte that tells of no padding.
		{bothFlags, "\x001234", "", false}, {bothFlags, "\x0012345", "", true}, {bothFlags, "\x00123456", "6", true},
		// So many, and one byte of padding.
		{bothFlags, "\x011234", "", false}, {bothFlags, "\x0112345", "", false}, {bothFlags, "\x01123456", "", true}, {bothFlags, "\x011234567", "6", true},
		// The padding takes all of the priority, all but one byte of it, one byte of it.
		{bothFlags, "\x0512345", "", false}, {bothFlags, "\x0412345", "", false}, {bothFlags, "\x0612345", "", false},
		{bothFlags, "\x04123456", "", false}, {bothFlags, "\x02123456", "", false}, {bothFlags, "\x06123456", "", false}, {bothFlags, "\x07123456", "", false},
		{bothFlags, "\x0312345abc", "", true}, {bothFlags, "\x0212345abc", "a", true}, {bothFlags, "\x0412345abc", "", false},
		{bothFlags, "\x0812345abc", "", false}, {bothFlags, "\x0912345abc", "", false},
		{bothFlags, "\x0112345xy\x00", "xy", true},
		{bothFlags, "\xff12345" + strings.Repeat("p", 255), "", true}, {bothFlags, "\xff1234" + strings.Repeat("p", 255), "", false},
		{bothFlags, "\xff12345d" + strings.Repeat("p", 255), "d", true}, {bothFlags, "\xff12345" + strings.Repeat("p", 254), "", false},
	} {
		for _, more := range []int{0, impl.FlagEnd, impl.FlagHead, 1 | 2 | 4 | 16 | 64 | 128} {
			f := impl.Frame{Kind: impl.FrHeaders, Flags: x.flags | more, Stream: 1, Body: []byte(x.body)}
			if x.ok {
				checkUnpad(t, f, x.want)
			} else {
				checkNoUnpad(t, f)
			}
		}
	}
}

// Each body of so many bytes that tells of so much padding: what is between is what is left of it, where that is not less than nothing.
func TestUnpadOfEachLength(t *testing.T) {
	for _, flags := range []int{impl.FlagPad, bothFlags} {
		for _, kind := range []int{impl.FrData, impl.FrHeaders, impl.FrMore} {
			ahead := 1
			if kind == impl.FrHeaders && flags == bothFlags {
				ahead = 6
			}
			for length := 1; length < 300; length += 1 + length/20 {
				body := make([]byte, length)
				for i := range body {
					body[i] = byte(i)
				}
				for n := range 256 {
					body[0] = byte(n)
					f := impl.Frame{Kind: kind, Flags: flags, Stream: 1, Body: body}
					if left := length - ahead - n; left >= 0 {
						checkUnpad(t, f, string(body[ahead:ahead+left]))
					} else {
						checkNoUnpad(t, f)
					}
				}
			}
		}
	}
}

// What the chapter names alone is asked of a frame: one that is not FrameOk is unpadded, too.
func TestUnpadOfFramesThatAreNotOk(t *testing.T) {
	long := strings.Repeat("d", 2000)
	checkUnpad(t, impl.Frame{Kind: impl.FrData, Flags: impl.FlagPad, Stream: -1, Body: []byte("\x01ab")}, "a")
	checkUnpad(t, impl.Frame{Kind: impl.FrData, Flags: impl.FlagPad, Stream: 1 << 31, Body: []byte("\x01ab")}, "a")
	checkUnpad(t, impl.Frame{Kind: impl.FrData, Flags: impl.FlagPad, Body: []byte("\x01" + long)}, long[1:])
	checkUnpad(t, impl.Frame{Kind: impl.FrHeaders, Body: []byte(long)}, long)
	checkUnpad(t, impl.Frame{Kind: -1, Flags: bothFlags, Body: []byte("\x01ab")}, "a")
	checkUnpad(t, impl.Frame{Kind: 256 + impl.FrHeaders, Flags: bothFlags, Body: []byte("\x01ab")}, "a")
	checkNoUnpad(t, impl.Frame{Kind: 256, Flags: impl.FlagPad, Body: []byte("\x03ab")})
	checkUnpad(t, impl.Frame{}, "")
	checkUnpad(t, impl.Frame{Body: []byte{}}, "")
}

// Promise 7: what is padded comes back.
func TestWhatIsPaddedComesBack(t *testing.T) {
	d := drawer(70)
	for round := range 3000 {
		lengths := []int{0, 1, 5, 255, 256, d.draw(20), d.draw(740), 739}
		data, n := d.bytes(lengths[d.draw(len(lengths))]), d.draw(256)
		if round%5 == 0 {
			n = padEdges[d.draw(len(padEdges))].n
		}
		flags := d.draw(256) | impl.FlagPad
		sent := impl.Frame{Kind: impl.FrData, Flags: flags, Stream: 1, Body: impl.Pad(data, n)}
		checkUnpad(t, sent, string(data))
		sent.Kind, sent.Flags = impl.FrHeaders, flags&^impl.FlagPrio
		checkUnpad(t, sent, string(data))
		sent.Flags, sent.Body = flags|impl.FlagPrio, impl.Pad(append(d.bytes(5), data...), n)
		checkUnpad(t, sent, string(data))
		// Sent as bytes, it comes back, too.
		got, _, code := impl.GetFrame(impl.PutFrame(sent), 0)
		if code != impl.FrameGood {
			t.Fatalf("round %d: %s has the code %d", round, frameTitle(sent), code)
		}
		checkUnpad(t, got, string(data))
		sent.Flags, sent.Body = flags&^bothFlags, data
		checkUnpad(t, sent, string(data))
	}
}

// Padding that is not 0 is passed over like any other: that it is 0 is asked of Pad alone.
func TestPaddingIsNotRead(t *testing.T) {
	for n := range 256 {
		for _, fill := range []byte{0, 1, 8, 0xff} {
			body := slices.Concat([]byte{byte(n)}, []byte("data"), bytes.Repeat([]byte{fill}, n))
			checkUnpad(t, impl.Frame{Flags: impl.FlagPad, Stream: 1, Body: body}, "data")
		}
	}
}

// checkBytesMemory asks of a call that takes bytes and answers bytes: nothing is written, nothing is shared, and the spare room tells nothing.
func checkBytesMemory(t *testing.T, title string, data string, spare int, call func([]byte) []byte) {
	t.Helper()
	b, all := roomy(data, spare)
	before := string(all)
	one, two := call(b), call(b)
	if string(all) != before {
		t.Errorf("%s: the argument is written into", title)
	}
	answer := string(one)
	turnAll(two)
	if string(all) != before || string(one) != answer {
		t.Errorf("%s: an answer shares memory", title)
	}
	turnAll(all)
	if string(one) != answer {
		t.Errorf("%s: the answer changes with the argument", title)
	}
	if plain := call(slices.Clip([]byte(data))); string(plain) != answer {
		t.Errorf("%s: %.20x, but %.20x without spare room", title, answer, plain)
	}
}

func TestPadAndUnpadLeaveTheirArgumentsAlone(t *testing.T) {
	for _, data := range []string{"", "\x00", "\x01", "\x02a", "\x02abcd", "\x0312345abc", "\x0412345abc", "1234", "12345", strings.Repeat("\x07", 1000)} {
		for _, spare := range []int{0, 1, 5, 300} {
			for _, n := range []int{-1, 0, 1, 5, 255, 256} {
				title := fmt.Sprintf("Pad of %.20x with %d spare, by %d", data, spare, n)
				checkBytesMemory(t, title, data, spare, func(b []byte) []byte { return impl.Pad(b, n) })
			}
			for _, kind := range []int{impl.FrData, impl.FrHeaders, impl.FrMore} {
				for _, flags := range []int{0, impl.FlagPad, impl.FlagPrio, bothFlags} {
					title := fmt.Sprintf("Unpad of %.20x with %d spare, kind %d, flags %d", data, spare, kind, flags)
					checkBytesMemory(t, title, data, spare, func(b []byte) []byte {
						got, _ := impl.Unpad(impl.Frame{Kind: kind, Flags: flags, Stream: 1, Body: b})
						return got
					})
				}
			}
		}
	}
}

func TestWhatReadsNumbersLeavesItsArgumentAlone(t *testing.T) {
	calls := map[string]func([]byte) []byte{
		"GetSettings": func(b []byte) []byte {
			l, ok := impl.GetSettings(b)
			return fmt.Append(nil, l, ok)
		},
		"GetGoAway": func(b []byte) []byte {
			last, code, ok := impl.GetGoAway(b)
			return fmt.Append(nil, last, code, ok)
		},
		"WindowOf": func(b []byte) []byte {
			n, ok := impl.WindowOf(b)
			return fmt.Append(nil, n, ok)
		},
	}
	for name, call := range calls {
		for length := range 20 {
			for _, spare := range []int{0, 1, 4, 5, 6, 30} {
				checkBytesMemory(t, fmt.Sprintf("%s of %d bytes with %d spare", name, length, spare), strings.Repeat("\x81", length), spare, call)
			}
		}
	}
}

func TestSettingsShareNoMemory(t *testing.T) {
	room := impl.Setting{Id: 99, Value: 99}
	for count := range 5 {
		for _, spare := range []int{0, 1, 20} {
			l := slices.Repeat([]impl.Setting{{Id: -1, Value: 1 << 33}}, count)
			all := slices.Concat(l, slices.Repeat([]impl.Setting{room}, spare))
			before := slices.Clone(all)
			title := fmt.Sprintf("%d settings with %d spare", count, spare)
			one, two := impl.PutSettings(all[:count]), impl.PutSettings(all[:count])
			if !slices.Equal(all, before) {
				t.Errorf("%s: the list is written into", title)
			}
			answer := string(one)
			turnAll(two)
			if string(one) != answer || len(one) != 6*count {
				t.Errorf("%s: %x, not %x", title, one, answer)
			}
			back, _ := impl.GetSettings(one)
			other, _ := impl.GetSettings(one)
			kept := slices.Clone(back)
			for i := range other[:cap(other)] {
				other[:cap(other)][i] = room
			}
			turnAll(one)
			if !slices.Equal(back, kept) {
				t.Errorf("%s: what came back changes to %v", title, back)
			}
		}
	}
}

func TestGoAwaysShareNoMemory(t *testing.T) {
	one, two := impl.PutGoAway(1, 2), impl.PutGoAway(1, 2)
	turnAll(two)
	if string(one) != "\x00\x00\x00\x01\x00\x00\x00\x02" || string(impl.PutGoAway(1, 2)) != string(one) {
		t.Errorf("PutGoAway of 1, 2: %x", one)
	}
}

// No call keeps anything: what is refused leaves nothing behind.
func TestBodiesAreReadAlikeAgain(t *testing.T) {
	for range 3 {
		checkGetSettings(t, make([]byte, 7), nil, false)
		checkGetSettings(t, []byte{0, 4, 0, 0, 0, 9}, []impl.Setting{{Id: 4, Value: 9}}, true)
		checkGoAway(t, make([]byte, 7), 0, 0, false)
		checkGoAway(t, []byte{0, 0, 0, 5, 0, 0, 0, 1}, 5, 1, true)
		checkWindow(t, make([]byte, 5), 0, false)
		checkWindow(t, []byte{0, 0, 0, 9}, 9, true)
		checkNoUnpad(t, impl.Frame{Kind: impl.FrHeaders, Flags: bothFlags, Stream: 1, Body: []byte("\x0112345")})
		checkUnpad(t, impl.Frame{Kind: impl.FrHeaders, Flags: bothFlags, Stream: 1, Body: []byte("\x0112345a\x00")}, "a")
	}
}
