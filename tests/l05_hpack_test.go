package tests

import (
	"bytes"
	"encoding/hex"
	"fmt"
	"math"
	"slices"
	"strings"
	"testing"

	"loop.example/g00199/impl"
)

// hexBytes makes bytes of hex digits; blanks between them are passed over.
func hexBytes(t *testing.T, digits string) []byte {
	t.Helper()
	b, err := hex.DecodeString(strings.ReplaceAll(digits, " ", ""))
	if err != nil {
		t.Fatalf("%q: %v", digits, err)
	}
	return b
}

// plainText is a text as it stands in a block, not coded.
func plainText(s string) string {
	return string(impl.PutPrefix(nil, 7, 0, len(s))) + s
}

// codedText is a text as it stands in a block, coded, even if that is not shorter.
func codedText(s string) string {
	code := impl.Huff(s)
	return string(impl.PutPrefix(nil, 7, 128, len(code))) + string(code)
}

// lead is a number in one of the forms of a block.
func lead(bits int, first int, n int) string {
	return string(impl.PutPrefix(nil, bits, first, n))
}

func indexed(n int) string { return lead(7, 128, n) }

func sizeTold(n int) string { return lead(5, 32, n) }

// namedForms are the forms with a value written out, by their modes.
var namedForms = []struct{ mode, bits, first int }{
	{impl.FieldAdd, 6, 64}, {impl.FieldPlain, 4, 0}, {impl.FieldNever, 4, 16},
}

func checkString(t *testing.T, b []byte, at int, want string, behind int) {
	t.Helper()
	if s, next, ok := impl.GetString(b, at); !ok || s != want || next != behind {
		t.Errorf("GetString(%.40x .., %d) = %.40q, %d, %v, not %.40q, %d", b, at, s, next, ok, want, behind)
	}
}

func checkNoString(t *testing.T, b []byte, at int) {
	t.Helper()
	if s, next, ok := impl.GetString(b, at); ok || s != "" || next != 0 {
		t.Errorf("GetString(%.40x .., %d) = %.40q, %d, %v", b, at, s, next, ok)
	}
}

func checkBlock(t *testing.T, title string, x impl.Table, most int, b string, fields []impl.Field, behind impl.Table) {
	t.Helper()
	l, y, code := impl.GetFields(x, most, []byte(b))
	if code != impl.BlockGood || !slices.Equal(l, fields) {
		t.Errorf("%s: code %d, fields %.200q, not %.200q", title, code, l, fields)
	}
	if !sameTable(y, behind) {
		t.Errorf("%s: the table behind it is %.200v, not %.200v", title, y, behind)
	}
}

func checkFault(t *testing.T, title string, x impl.Table, most int, b string, want int) {
	t.Helper()
	l, y, code := impl.GetFields(x, most, []byte(b))
	if code != want || len(l) != 0 {
		t.Errorf("%s: code %d, %d fields, not code %d", title, code, len(l), want)
	}
	if !sameTable(y, x) {
		t.Errorf("%s: the table becomes %.200v", title, y)
	}
}

func TestConstantsOfBlocks(t *testing.T) {
	got := []int{impl.FieldAdd, impl.FieldPlain, impl.FieldNever, impl.BlockGood, impl.BlockEnd, impl.BlockIndex, impl.BlockSize, impl.BlockMany}
	if want := []int{1, 2, 3, 0, 1, 2, 3, 4}; !slices.Equal(got, want) {
		t.Errorf("the constants are %v", got)
	}
}

func TestPutStringOfKnownTexts(t *testing.T) {
	for _, x := range []struct{ b, s, want string }{
		{"", "", "00"},
		{"ab", "", "6162 00"},
		{"", "www.example.com", "8c f1e3c2e5f23a6ba0ab90f4ff"},
		{"\x01", "www.example.com", "01 8c f1e3c2e5f23a6ba0ab90f4ff"},
		{"", "no-cache", "86 a8eb10649cbf"},
		{"", "302", "82 6402"},
		// The code has just as many bytes as the text.
		{"", "307", "03 333037"},
		{"", "x", "01 78"},
		{"", "X", "01 58"},
		{"", "00", "02 3030"},
		// One byte less.
		{"", "000", "82 0001"},
		{"", "gzip", "83 9bd9ab"},
		// One byte more.
		{"", "\x00", "01 00"},
		{"", "!", "01 21"},
		{"", "!!!!", "04 21212121"},
		{"", "\n", "01 0a"},
		{"", "\xff\xfe", "02 fffe"},
	} {
		if got := impl.PutString([]byte(x.b), x.s); !bytes.Equal(got, hexBytes(t, x.want)) {
			t.Errorf("PutString(%q, %q) = %x, not %s", x.b, x.s, got, x.want)
		}
	}
}

// A text is coded where that is shorter, and nowhere else: by so many bytes in each direction.
func TestPutStringTakesTheShorter(t *testing.T) {
	seen := map[int]int{}
	for _, unit := range []string{"0", "a", "-", "A", "X", "!", "#", "\x00", "\n", "a!", "aX\x00", "00!", "é"} {
		for count := range 60 {
			s := strings.Repeat(unit, count)
			want := plainText(s)
			if len(impl.Huff(s)) < len(s) {
				want = codedText(s)
			}
			seen[len(impl.Huff(s))-len(s)]++
			if got := impl.PutString([]byte("head"), s); string(got) != "head"+want {
				t.Errorf("PutString(head, %q) = %x, not %x", s, got, want)
			}
		}
	}
	if seen[-1] == 0 || seen[0] == 0 || seen[1] == 0 {
		t.Errorf("no text of each kind: %v", seen)
	}
}

// Around 126 and 127 the number of bytes gets a byte of its own.
func TestPutStringOfLongTexts(t *testing.T) {
	for n, begin := range map[int]string{126: "7e", 127: "7f00", 128: "7f01", 254: "7f7f", 255: "7f8001", 4000: "7fa11e", 4001: "7fa21e", 70000: "7ff1a104"} {
		s := strings.Repeat("\x00", n)
		if got := impl.PutString(nil, s); string(got) != string(hexBytes(t, begin))+s {
			t.Errorf("%d bytes begin with %.4x, not %s", n, got, begin)
		}
	}
	// Eight bytes 0 (the digit) have five bytes of code.
	for n, begin := range map[int]string{200: "fd", 208: "ff03", 4000: "ffc512", 4001: "ffc612", 8000: "ff8926"} {
		s := strings.Repeat("0", n)
		got := impl.PutString(nil, s)
		if want := string(hexBytes(t, begin)) + string(impl.Huff(s)); string(got) != want {
			t.Errorf("%d digits begin with %.4x, not %s", n, got, begin)
		}
	}
}

func TestGetStringOfEitherForm(t *testing.T) {
	for _, s := range []string{"", "a", "X", "00", "000", "307", "www.example.com", "\x00", "!!!!", "\n", "\xff\xfe\x00", strings.Repeat("a!", 200)} {
		for _, form := range []string{plainText(s), codedText(s), string(impl.PutString(nil, s))} {
			for _, head := range []string{"", "h", "head"} {
				for _, tail := range []string{"", "t", "\xff\xff"} {
					b := []byte(head + form + tail)
					checkString(t, b, len(head), s, len(head)+len(form))
				}
			}
		}
	}
}

func TestGetStringOfTheGreatestText(t *testing.T) {
	for _, unit := range []string{"0", "a", "X", "\x00", "!"} {
		for _, n := range []int{3999, 4000} {
			s := strings.Repeat(unit, n)
			for _, form := range []string{plainText(s), codedText(s)} {
				checkString(t, []byte("x"+form+"y"), 1, s, 1+len(form))
			}
		}
		for _, n := range []int{4001, 4002, 5000, 6400, 6401, 20000} {
			s := strings.Repeat(unit, n)
			for _, form := range []string{plainText(s), codedText(s), string(impl.PutString(nil, s))} {
				checkNoString(t, []byte("x"+form+"y"), 1)
			}
		}
	}
}

func TestGetStringPlaces(t *testing.T) {
	b, _ := roomy("\x03abc\x00\x81\x1f", 9)
	checkString(t, b, 0, "abc", 4)
	checkString(t, b, 4, "", 5)
	checkString(t, b, 5, "a", 7)
	for _, at := range []int{math.MinInt, math.MinInt + 1, -8, -7, -2, -1, 7, 8, 15, 16, 17, math.MaxInt - 1, math.MaxInt} {
		checkNoString(t, b, at)
	}
	for _, at := range []int{-1, 0, 1} {
		checkNoString(t, nil, at)
		checkNoString(t, []byte{}, at)
	}
}

func TestGetStringThatIsCut(t *testing.T) {
	for _, s := range []string{"a", "abc", "www.example.com", "\x00", strings.Repeat("\x00", 127), strings.Repeat("0", 300), strings.Repeat("a", 4000)} {
		for _, form := range []string{plainText(s), codedText(s)} {
			for cut := range len(form) {
				// What lies behind the list would make the text whole.
				checkNoString(t, []byte("hh" + form)[:2+cut], 2)
			}
			checkString(t, []byte("hh"+form), 2, s, 2+len(form))
		}
	}
}

func TestGetStringThatIsWrong(t *testing.T) {
	for _, digits := range []string{
		// Wrong codes: filled with bits 0, a whole byte filled, the end's own code.
		"81 00", "81 18", "81 ff", "82 1fff", "82 64fe", "84 ffffffff", "84 fffffffc", "81 fe", "81 64",
		// Wrong numbers: cut, of more than four bytes behind the first, above MaxPrefix.
		"7f", "ff", "7f80", "ff8080", "7f80808080", "7f8080808000", "ff8080808000", "7f82ffff07", "7f81ffff08",
		// Fewer bytes than are told.
		"01", "81", "02 61", "7e 61", "7f00 6161", "7f81ffff07 61", "ff81ffff07 1f",
	} {
		b := hexBytes(t, digits)
		checkNoString(t, b, 0)
		checkNoString(t, append([]byte("head"), b...), 4)
	}
	// A plain text is taken as it stands, whatever its bytes are.
	checkString(t, hexBytes(t, "0400ff811f"), 0, "\x00\xff\x81\x1f", 5)
	// Needless groups of a number are read.
	checkString(t, append(hexBytes(t, "7f80808000"), strings.Repeat("z", 127)...), 0, strings.Repeat("z", 127), 132)
}

// Promise 5: a text comes back of its bytes.
func TestTextsComeBack(t *testing.T) {
	for length := range 300 {
		s := make([]byte, length)
		at := uint32(length)
		for i := range s {
			at = at*1664525 + 1013904223
			s[i] = byte(at >> 24)
			if length%2 == 0 {
				s[i] = "0123456789abcdef"[s[i]&15]
			}
		}
		b := impl.PutString([]byte("head"), string(s))
		checkString(t, append(b, "tail"...), 4, string(s), len(b))
	}
}

func TestPutFieldInEachMode(t *testing.T) {
	x := impl.Table{Max: 300, Fields: []impl.Field{
		{Name: "own", Value: "one"}, {Name: ":method", Value: "PATCH"}, {Name: "bare", Value: ""}, {Name: "own", Value: "two"},
	}}
	for _, w := range []struct {
		name, value       string
		add, plain, never string
		grows             bool
	}{
		// There with its value: among the first, in the table.
		{":method", "GET", "82", "82", "12 03474554", false},
		{":path", "/", "84", "84", "14 012f", false},
		{"age", "", "95", "95", "1f06 00", false},
		{"www-authenticate", "", "bd", "bd", "1f2e 00", false},
		{"own", "one", "be", "be", "1f2f 823d45", false},
		{":method", "PATCH", "bf", "bf", "1f30 05 5041544348", false},
		{"bare", "", "c0", "c0", "1f31 00", false},
		{"own", "two", "c1", "c1", "1f32 03 74776f", false},
		// There by its name alone.
		{":method", "", "42 00", "02 00", "12 00", true},
		{":method", "X", "42 0158", "02 0158", "12 0158", true},
		{":status", "999", "48 03393939", "08 03393939", "18 03393939", true},
		{"accept-encoding", "", "50 00", "0f01 00", "1f01 00", true},
		{"via", "x", "7c 0178", "0f2d 0178", "1f2d 0178", true},
		{"www-authenticate", "x", "7d 0178", "0f2e 0178", "1f2e 0178", true},
		{"own", "x", "7e 0178", "0f2f 0178", "1f2f 0178", true},
		{"own", "", "7e 00", "0f2f 00", "1f2f 00", true},
		{"bare", "x", "7f01 0178", "0f31 0178", "1f31 0178", true},
		// Not at all.
		{"k", "v", "40 016b 0176", "00 016b 0176", "10 016b 0176", true},
		{"k", "", "40 016b 00", "00 016b 00", "10 016b 00", true},
		{"", "v", "40 00 0176", "00 00 0176", "10 00 0176", true},
		{"", "", "40 00 00", "00 00 00", "10 00 00", true},
		{"Own", "one", "40 034f776e 823d45", "00 034f776e 823d45", "10 034f776e 823d45", true},
		{"000", "gzip", "40 820001 839bd9ab", "00 820001 839bd9ab", "10 820001 839bd9ab", true},
		{"authorization", "x", "57 0178", "0f08 0178", "1f08 0178", true},
		{"authorization", "", "97", "97", "1f08 00", false},
	} {
		f := impl.Field{Name: w.name, Value: w.value}
		for mode, digits := range map[int]string{impl.FieldAdd: w.add, impl.FieldPlain: w.plain, impl.FieldNever: w.never} {
			b, y := impl.PutField(x, f, mode)
			if !bytes.Equal(b, hexBytes(t, digits)) {
				t.Errorf("%q of mode %d: %x, not %s", f, mode, b, digits)
			}
			want := x
			if mode == impl.FieldAdd && w.grows {
				want = impl.AddField(x, f)
			}
			if !sameTable(y, want) {
				t.Errorf("%q of mode %d: the table is %v, not %v", f, mode, y, want)
			}
			checkBlock(t, fmt.Sprintf("%q of mode %d, back", f, mode), x, 0, string(b), []impl.Field{f}, want)
		}
	}
}

// The number of a name is that of the field that FindField tells, also where that has the value, too.
func TestFieldNeverTellsTheNumberOfItsField(t *testing.T) {
	x := impl.Table{Max: 200, Fields: []impl.Field{{Name: ":status", Value: "100"}, {Name: "own", Value: "1"}, {Name: "own", Value: "2"}}}
	for _, f := range append(docFields(), x.Fields...) {
		number, both := impl.FindField(x, f)
		if !both {
			t.Fatalf("%q is not there", f)
		}
		want := lead(4, 16, number) + string(impl.PutString(nil, f.Value))
		if b, y := impl.PutField(x, f, impl.FieldNever); string(b) != want || !sameTable(y, x) {
			t.Errorf("%q: %x, not %x", f, b, want)
		}
	}
}

func TestPutFieldRefuses(t *testing.T) {
	fields := []impl.Field{{}, {Name: ":method", Value: "GET"}, {Name: "a", Value: "1"}, {Name: "authorization", Value: "x"}}
	good := tableOf(200, 40, "abc")
	for _, mode := range []int{math.MinInt, -1, 0, 4, 5, 64, 128, math.MaxInt} {
		for _, f := range fields {
			if b, y := impl.PutField(good, f, mode); len(b) != 0 || !sameTable(y, good) {
				t.Errorf("PutField of %q, mode %d: %x, %v", f, mode, b, y)
			}
		}
	}
	for _, x := range wrongTables() {
		for mode := range 5 {
			for _, f := range fields {
				if b, y := impl.PutField(x, f, mode); len(b) != 0 || !sameTable(y, x) {
					t.Errorf("PutField of Max %d, %q, mode %d: %x, %.100v", x.Max, f, mode, b, y)
				}
			}
		}
		if b, y := impl.PutFields(x, fields); len(b) != 0 || !sameTable(y, x) {
			t.Errorf("PutFields of Max %d: %x, %.100v", x.Max, b, y)
		}
		if b, y := impl.PutFields(x, nil); len(b) != 0 || !sameTable(y, x) {
			t.Errorf("PutFields of Max %d and none: %x, %.100v", x.Max, b, y)
		}
	}
}

func TestPutFieldMakesRoom(t *testing.T) {
	x := tableOf(160, 40, "abcd")
	for size, want := range map[int]string{33: "Nabc", 40: "Nabc", 41: "Nab", 160: "N", 161: "", 300: ""} {
		f := sized("N", size)
		b, y := impl.PutField(x, f, impl.FieldAdd)
		if namesIn(y) != want || y.Max != 160 {
			t.Errorf("a field of %d: %q of Max %d, not %q", size, namesIn(y), y.Max, want)
		}
		checkBlock(t, fmt.Sprint("a field of ", size), x, 4096, string(b), []impl.Field{f}, y)
	}
}

func TestPutFieldsIsPutFieldOfEach(t *testing.T) {
	for _, l := range [][]impl.Field{
		nil,
		{},
		{{}},
		{{Name: "authorization", Value: "x"}},
		{{Name: "authorization", Value: ""}, {Name: "authorization", Value: "x"}, {Name: "authorization", Value: "x"}},
		{{Name: "proxy-authorization", Value: "x"}, {Name: "Authorization", Value: "x"}, {Name: "authorization ", Value: "x"}, {Name: "x", Value: "authorization"}},
		{{Name: ":method", Value: "GET"}, {Name: "a", Value: "1"}, {Name: "a", Value: "1"}, {Name: "a", Value: "2"}, {Name: "a", Value: "1"}},
		slices.Repeat([]impl.Field{{Name: "n", Value: "v"}, {Name: "authorization", Value: "v"}}, 80),
	} {
		for _, top := range []int{0, 34, 80, 4096} {
			x := impl.Table{Max: top}
			want, behind := []byte{}, x
			for _, f := range l {
				mode := impl.FieldAdd
				if f.Name == "authorization" {
					mode = impl.FieldNever
				}
				var piece []byte
				piece, behind = impl.PutField(behind, f, mode)
				want = append(want, piece...)
			}
			if b, y := impl.PutFields(x, l); !bytes.Equal(b, want) || !sameTable(y, behind) {
				t.Errorf("%.100q of Max %d: %x, %v, not %x, %v", l, top, b, y, want, behind)
			}
		}
	}
}

func TestPutFieldsOfKnownBytes(t *testing.T) {
	for _, w := range []struct {
		l      []impl.Field
		digits string
		names  string
	}{
		{nil, "", ""},
		{[]impl.Field{{Name: "authorization", Value: "x"}}, "1f08 0178", ""},
		{[]impl.Field{{Name: "authorization", Value: ""}}, "1f08 00", ""},
		{[]impl.Field{{Name: "proxy-authorization", Value: "x"}}, "71 0178", "proxy-authorization"},
		{[]impl.Field{{Name: "k", Value: "v"}, {Name: "k", Value: "v"}}, "40 016b 0176 be", "k"},
		{[]impl.Field{{Name: "k", Value: "v"}, {Name: "k", Value: "w"}, {Name: "k", Value: "v"}}, "40 016b 0176 7e 0177 bf", "kk"},
		{[]impl.Field{{Name: ":status", Value: "204"}, {Name: "k", Value: ""}, {Name: "authorization", Value: "k"}}, "89 40 016b 00 1f08 016b", "k"},
	} {
		b, y := impl.PutFields(impl.Table{Max: 4096}, w.l)
		if !bytes.Equal(b, hexBytes(t, w.digits)) || namesIn(y) != w.names || y.Max != 4096 {
			t.Errorf("%q: %x and %q, not %s and %q", w.l, b, namesIn(y), w.digits, w.names)
		}
	}
}

// A field that was kept from the table by PutFields, but is there: FieldNever all the same.
func TestPutFieldsNeverIndexesAuthorization(t *testing.T) {
	secret := impl.Field{Name: "authorization", Value: "x"}
	x := impl.Table{Max: 100, Fields: []impl.Field{secret}}
	b, y := impl.PutFields(x, []impl.Field{secret})
	if len(b) == 0 || b[0]>>4 != 1 || !sameTable(y, x) {
		t.Errorf("it stands as %x, behind it %v", b, y)
	}
	checkBlock(t, "back", x, 0, string(b), []impl.Field{secret}, x)
}

// rfcBlocks are the examples of RFC 7541, C.2 to C.6: blocks of one list of tables one behind the other.
var rfcBlocks = []struct {
	title  string
	top    int
	blocks []string
	// coded tells that PutFields makes just these bytes.
	coded bool
	lists [][]impl.Field
	sizes []int
}{
	{"C.2.1", 4096, []string{"400a637573746f6d2d6b65790d637573746f6d2d686561646572"}, false,
		[][]impl.Field{{{Name: "custom-key", Value: "custom-header"}}}, []int{55}},
	{"C.2.2", 4096, []string{"040c2f73616d706c652f70617468"}, false, [][]impl.Field{{{Name: ":path", Value: "/sample/path"}}}, []int{0}},
	{"C.2.3", 4096, []string{"100870617373776f726406736563726574"}, false, [][]impl.Field{{{Name: "password", Value: "secret"}}}, []int{0}},
	{"C.2.4", 4096, []string{"82"}, true, [][]impl.Field{{{Name: ":method", Value: "GET"}}}, []int{0}},
	{"C.3", 4096, []string{
		"828684410f7777772e6578616d706c652e636f6d",
		"828684be58086e6f2d6361636865",
		"828785bf400a637573746f6d2d6b65790c637573746f6d2d76616c7565",
	}, false, rfcRequests, []int{57, 110, 164}},
	{"C.4", 4096, []string{
		"828684418cf1e3c2e5f23a6ba0ab90f4ff",
		"828684be5886a8eb10649cbf",
		"828785bf408825a849e95ba97d7f8925a849e95bb8e8b4bf",
	}, true, rfcRequests, []int{57, 110, 164}},
	{"C.5", 256, []string{
		"4803333032580770726976617465611d4d6f6e2c203231204f637420323031332032303a31333a323120474d546e1768747470733a2f2f7777772e6578616d706c652e636f6d",
		"4803333037c1c0bf",
		"88c1611d4d6f6e2c203231204f637420323031332032303a31333a323220474d54c05a04677a69707738666f6f3d4153444a4b48514b425a584f5157454f50495541585157454f49553b206d61782d6167653d333630303b2076657273696f6e3d31",
	}, false, rfcAnswers, []int{222, 222, 215}},
	{"C.6", 256, []string{
		"488264025885aec3771a4b6196d07abe941054d444a8200595040b8166e082a62d1bff6e919d29ad171863c78f0b97c8e9ae82ae43d3",
		// The RFC codes 307, which saves nothing.
		"4803333037c1c0bf",
		"88c16196d07abe941054d444a8200595040b8166e084a62d1bffc05a839bd9ab77ad94e7821dd7f2e6c7b335dfdfcd5b3960d5af27087f3672c1ab270fb5291f9587316065c003ed4ee5b1063d5007",
	}, true, rfcAnswers, []int{222, 222, 215}},
}

var rfcRequests = [][]impl.Field{
	{{Name: ":method", Value: "GET"}, {Name: ":scheme", Value: "http"}, {Name: ":path", Value: "/"}, {Name: ":authority", Value: "www.example.com"}},
	{{Name: ":method", Value: "GET"}, {Name: ":scheme", Value: "http"}, {Name: ":path", Value: "/"}, {Name: ":authority", Value: "www.example.com"}, {Name: "cache-control", Value: "no-cache"}},
	{{Name: ":method", Value: "GET"}, {Name: ":scheme", Value: "https"}, {Name: ":path", Value: "/index.html"}, {Name: ":authority", Value: "www.example.com"}, {Name: "custom-key", Value: "custom-value"}},
}

var rfcAnswers = [][]impl.Field{
	{{Name: ":status", Value: "302"}, {Name: "cache-control", Value: "private"}, {Name: "date", Value: "Mon, 21 Oct 2013 20:13:21 GMT"}, {Name: "location", Value: "https://www.example.com"}},
	{{Name: ":status", Value: "307"}, {Name: "cache-control", Value: "private"}, {Name: "date", Value: "Mon, 21 Oct 2013 20:13:21 GMT"}, {Name: "location", Value: "https://www.example.com"}},
	{{Name: ":status", Value: "200"}, {Name: "cache-control", Value: "private"}, {Name: "date", Value: "Mon, 21 Oct 2013 20:13:22 GMT"}, {Name: "location", Value: "https://www.example.com"},
		{Name: "content-encoding", Value: "gzip"}, {Name: "set-cookie", Value: "foo=ASDJKHQKBZXOQWEOPIUAXQWEOIU; max-age=3600; version=1"}},
}

func TestExamplesOfTheRfc(t *testing.T) {
	for _, x := range rfcBlocks {
		reads, writes := impl.Table{Max: x.top}, impl.Table{Max: x.top}
		for i, digits := range x.blocks {
			b := hexBytes(t, digits)
			l, y, code := impl.GetFields(reads, x.top, b)
			if code != impl.BlockGood || !slices.Equal(l, x.lists[i]) || impl.SizeOf(y) != x.sizes[i] {
				t.Errorf("%s, block %d: code %d, %q, %d bytes", x.title, i, code, l, impl.SizeOf(y))
			}
			reads = y
			if !x.coded {
				continue
			}
			var got []byte
			got, writes = impl.PutFields(writes, x.lists[i])
			if !bytes.Equal(got, b) || !sameTable(writes, reads) {
				t.Errorf("%s, list %d: %x, not %x", x.title, i, got, b)
			}
		}
	}
}

func TestAnEmptyBlock(t *testing.T) {
	for _, x := range []impl.Table{{}, {Max: 4096}, tableOf(120, 40, "abc")} {
		for _, most := range []int{0, 1, x.Max, 4096} {
			checkBlock(t, "the empty block", x, most, "", nil, x)
			if l, y, code := impl.GetFields(x, most, nil); len(l) != 0 || !sameTable(y, x) || code != impl.BlockGood {
				t.Errorf("nil: %q, %v, %d", l, y, code)
			}
		}
	}
}

func TestMostOfGetFields(t *testing.T) {
	x := tableOf(120, 40, "abc")
	get := impl.Field{Name: ":method", Value: "GET"}
	for _, most := range []int{0, 1, 119, 120, 121, 4095, 4096} {
		// The table's own Max may be above most: only what is told is held against it.
		checkBlock(t, fmt.Sprint("no size, most ", most), x, most, "\x82", []impl.Field{get}, x)
		checkBlock(t, fmt.Sprint("most itself, ", most), x, most, sizeTold(most)+"\x82", []impl.Field{get}, impl.Resize(x, most))
		checkBlock(t, fmt.Sprint("nothing left, most ", most), x, most, sizeTold(0), nil, impl.Table{})
		checkFault(t, fmt.Sprint("one above most, ", most), x, most, sizeTold(most+1)+"\x82", impl.BlockSize)
		checkFault(t, fmt.Sprint("MaxPrefix told, most ", most), x, most, sizeTold(impl.MaxPrefix), impl.BlockSize)
	}
	for _, most := range []int{math.MinInt, -4096, -1, 4097, 4098, math.MaxInt} {
		for _, b := range []string{"", "\x82", "\x80", "\x20", sizeTold(5000), "\x82\x20", strings.Repeat("\x82", 101)} {
			checkFault(t, fmt.Sprintf("most %d, block %.10x", most, b), x, most, b, impl.BlockEnd)
		}
	}
}

func TestGetFieldsOfWrongTables(t *testing.T) {
	for _, x := range wrongTables() {
		for _, most := range []int{-1, 0, 4096, 4097} {
			for _, b := range []string{"", "\x82", "\x80", "\xff", "\x20", sizeTold(4097), "\x82\x20", strings.Repeat("\x82", 101)} {
				checkFault(t, fmt.Sprintf("Max %d, most %d, block %.10x", x.Max, most, b), x, most, b, impl.BlockEnd)
			}
		}
	}
}

func TestWhereASizeIsTold(t *testing.T) {
	x := tableOf(160, 40, "abcd")
	get := impl.Field{Name: ":method", Value: "GET"}
	for _, w := range []struct {
		title, b string
		fields   []impl.Field
		behind   impl.Table
	}{
		{"at the front", sizeTold(80) + "\x82", []impl.Field{get}, tableOf(80, 40, "ab")},
		{"alone", sizeTold(80), nil, tableOf(80, 40, "ab")},
		{"twice at the front", sizeTold(80) + sizeTold(160) + "\x82", []impl.Field{get}, tableOf(160, 40, "ab")},
		{"twice, down again", sizeTold(200) + sizeTold(40) + "\x82", []impl.Field{get}, tableOf(40, 40, "a")},
		{"three times", sizeTold(0) + sizeTold(31) + sizeTold(200), nil, impl.Table{Max: 200}},
		{"the same size", sizeTold(160), nil, x},
		{"of one byte, the greatest", "\x3e", nil, impl.Table{Max: 30}},
		{"31", "\x3f\x00", nil, impl.Table{Max: 31}},
		{"ahead of a field of the table", sizeTold(80) + "\xbf", []impl.Field{sized("b", 40)}, tableOf(80, 40, "ab")},
		{"ahead of a field that is added", sizeTold(81) + "\x40\x01N" + plainText(strings.Repeat("v", 8)), []impl.Field{sized("N", 41)}, impl.Table{Max: 81, Fields: []impl.Field{sized("N", 41), sized("a", 40)}}},
		{"ahead of a field that is too much", sizeTold(33) + "\x40\x01N\x01v", []impl.Field{{Name: "N", Value: "v"}}, impl.Table{Max: 33}},
	} {
		checkBlock(t, w.title, x, 200, w.b, w.fields, w.behind)
	}
	checkFault(t, "what is gone with the size is no field", x, 200, sizeTold(80)+"\xc0", impl.BlockIndex)
	checkFault(t, "gone, and room again", x, 200, sizeTold(80)+sizeTold(160)+"\xc0", impl.BlockIndex)
	for _, f := range []string{"\x82", "\xbe", "\x42\x00", "\x02\x00", "\x12\x00", "\x40\x00\x00", "\x00\x00\x00", "\x10\x00\x00"} {
		for _, n := range []int{0, 30, 31, 160, 200, 201, 4096} {
			for _, front := range []string{"", "\x20", sizeTold(200)} {
				if f == "\xbe" && front == "\x20" {
					continue
				}
				b := front + f + sizeTold(n)
				checkFault(t, fmt.Sprintf("behind a field: %x", b), x, 200, b, impl.BlockSize)
				checkFault(t, fmt.Sprintf("between fields: %x", b), x, 200, b+f, impl.BlockSize)
			}
		}
	}
}

// A size below the Max of the table holds for the blocks that come behind it.
func TestASizeStays(t *testing.T) {
	x := impl.Table{Max: 4096}
	_, x, code := impl.GetFields(x, 4096, []byte(sizeTold(70)+"\x40\x01a\x01b"))
	if code != impl.BlockGood || x.Max != 70 || namesIn(x) != "a" {
		t.Fatalf("code %d, %v", code, x)
	}
	_, x, code = impl.GetFields(x, 4096, []byte("\x40\x01c\x01d\x40\x01e\x01f"))
	if code != impl.BlockGood || x.Max != 70 || namesIn(x) != "ec" {
		t.Fatalf("code %d, %v", code, x)
	}
}

func TestNumbersOfFields(t *testing.T) {
	filled := tableOf(160, 40, "abc")
	full := impl.Table{Max: 4096, Fields: slices.Repeat([]impl.Field{{}}, 128)}
	for _, x := range []impl.Table{{}, {Max: 4096}, tableOf(40, 40, "a"), filled, full} {
		last := 61 + len(x.Fields)
		for _, n := range []int{1, 2, 14, 15, 16, 30, 61, 62, 63, 64, 126, 127, 128, 188, 189, 190, last, last + 1, last + 2, 4096, impl.MaxPrefix} {
			f, there := impl.FieldAt(x, n)
			title := fmt.Sprintf("the number %d of %d", n, last)
			if !there {
				checkFault(t, title, x, 4096, indexed(n), impl.BlockIndex)
			} else {
				checkBlock(t, title, x, 4096, indexed(n), []impl.Field{f}, x)
			}
			for _, form := range namedForms {
				b := lead(form.bits, form.first, n) + "\x01w"
				named := impl.Field{Name: f.Name, Value: "w"}
				switch {
				case !there:
					checkFault(t, title+" of a name", x, 4096, b, impl.BlockIndex)
				case form.mode == impl.FieldAdd:
					checkBlock(t, title+" of a name", x, 4096, b, []impl.Field{named}, impl.AddField(x, named))
				default:
					checkBlock(t, title+" of a name", x, 4096, b, []impl.Field{named}, x)
				}
			}
		}
		checkFault(t, "the indexed field 0", x, 4096, "\x80", impl.BlockIndex)
		checkBlock(t, "the name 0, plain", x, 4096, "\x00\x01n\x01w", []impl.Field{{Name: "n", Value: "w"}}, x)
		checkBlock(t, "the name 0, never", x, 4096, "\x10\x01n\x01w", []impl.Field{{Name: "n", Value: "w"}}, x)
		checkBlock(t, "the name 0, added", x, 4096, "\x40\x01n\x01w", []impl.Field{{Name: "n", Value: "w"}}, impl.AddField(x, impl.Field{Name: "n", Value: "w"}))
	}
}

// Numbers are those of the table as it is there, with the fields that the block itself added.
func TestNumbersWithinABlock(t *testing.T) {
	one, two, three := impl.Field{Name: "a", Value: "1"}, impl.Field{Name: "b", Value: "2"}, impl.Field{Name: "a", Value: "3"}
	b := "\x40\x01a\x011" + "\xbe" + "\x40\x01b\x012" + "\xbe\xbf" + "\x7f\x00\x013" + "\xbe\xbf\xc0"
	checkBlock(t, "added, then told", impl.Table{Max: 4096}, 0, b,
		[]impl.Field{one, one, two, two, one, three, three, two, one}, impl.Table{Max: 4096, Fields: []impl.Field{three, two, one}})
	checkFault(t, "one past the added", impl.Table{Max: 4096}, 0, b+"\xc1", impl.BlockIndex)
	checkFault(t, "plain ones are not added", impl.Table{Max: 4096}, 0, "\x00\x01a\x011\xbe", impl.BlockIndex)
	checkFault(t, "never ones are not added", impl.Table{Max: 4096}, 0, "\x10\x01a\x011\xbe", impl.BlockIndex)
	checkFault(t, "one that is too much is not added", impl.Table{Max: 33}, 0, "\x40\x01a\x011\xbe", impl.BlockIndex)
	// The name is that of the oldest, which goes as the field comes.
	checkBlock(t, "the name of one that goes", tableOf(80, 40, "ab"), 0, "\x7f\x00\x01w",
		[]impl.Field{{Name: "b", Value: "w"}}, impl.Table{Max: 80, Fields: []impl.Field{{Name: "b", Value: "w"}, sized("a", 40)}})
}

func TestTextsOfBlocks(t *testing.T) {
	for _, n := range []int{0, 1, 126, 127, 4000} {
		for _, unit := range []string{"a", "\x00"} {
			s := strings.Repeat(unit, n)
			for _, text := range []string{plainText(s), codedText(s)} {
				for _, form := range namedForms {
					first := string([]byte{byte(form.first)})
					for b, f := range map[string]impl.Field{
						first + text + "\x01w":                 {Name: s, Value: "w"},
						first + "\x01n" + text:                 {Name: "n", Value: s},
						first + text + text:                    {Name: s, Value: s},
						lead(form.bits, form.first, 61) + text: {Name: "www-authenticate", Value: s},
					} {
						want := impl.Table{Max: 4096}
						if form.mode == impl.FieldAdd {
							want = impl.AddField(want, f)
						}
						checkBlock(t, fmt.Sprintf("texts of %d, mode %d", n, form.mode), impl.Table{Max: 4096}, 0, b, []impl.Field{f}, want)
					}
				}
			}
		}
	}
	long := strings.Repeat("a", 4001)
	for _, text := range []string{plainText(long), codedText(long)} {
		for _, first := range []string{"\x40", "\x00", "\x10"} {
			checkFault(t, "a name of 4001", impl.Table{Max: 4096}, 0, first+text+"\x01w", impl.BlockEnd)
			checkFault(t, "a value of 4001", impl.Table{Max: 4096}, 0, first+"\x01n"+text, impl.BlockEnd)
		}
	}
}

// Cut at any byte, a block has the fields that are whole there, or is not whole.
func TestCutBlocks(t *testing.T) {
	x := tableOf(160, 40, "abc")
	pieces := []string{
		sizeTold(150), "\x82", indexed(64), "\x40\x01k" + plainText(strings.Repeat("v", 200)), lead(6, 64, 61) + codedText("www.example.com"),
		lead(4, 0, 23) + "\x01x", "\x10" + codedText("custom-key") + plainText("w"), lead(4, 16, 61) + "\x00", "\x84",
	}
	whole := strings.Join(pieces, "")
	ends := map[int]int{0: 0}
	for at, n := 0, 0; n < len(pieces); n++ {
		at += len(pieces[n])
		ends[at] = n + 1
	}
	for cut := range len(whole) + 1 {
		count, there := ends[cut]
		if !there {
			checkFault(t, fmt.Sprint("cut at ", cut), x, 4096, whole[:cut], impl.BlockEnd)
			continue
		}
		l, _, code := impl.GetFields(x, 4096, []byte(whole)[:cut])
		if code != impl.BlockGood || len(l) != max(count-1, 0) {
			t.Errorf("cut at %d: code %d, %d fields, not %d", cut, code, len(l), count-1)
		}
	}
}

func TestWhatIsNotThereWhole(t *testing.T) {
	x := tableOf(160, 40, "abc")
	for _, digits := range []string{
		"ff", "ff80", "ff80808080", "ff8080808000", "ffffffffff00", "ff82ffff07", "7f", "7f80", "3f", "3f80", "3f8080808000", "0f", "0f80", "1f", "1f8080808080",
		"40", "00", "10", "41", "01", "11", "40 01", "4001 6b", "40 016b 01", "40 026b", "00 0161 0261", "10 ff", "41 7f", "41 ff80", "01 7f8080808000",
		"40 8100 00", "40 81ff 00", "40 00 8100", "40 00 81ff", "01 84ffffffff", "11 8118", "40 82 1f",
	} {
		b := string(hexBytes(t, digits))
		for _, front := range []string{"", "\x20", "\x82", "\x20\x82\x84", strings.Repeat("\x82", 99)} {
			title := fmt.Sprintf("%.6x.. and %s", front, digits)
			checkFault(t, title, x, 4096, front+b, impl.BlockEnd)
		}
	}
}

func TestManyFields(t *testing.T) {
	x := impl.Table{Max: 4096}
	for form, f := range map[string]impl.Field{
		"\x82": {Name: ":method", Value: "GET"}, "\x42\x01w": {Name: ":method", Value: "w"},
		"\x02\x01w": {Name: ":method", Value: "w"}, "\x12\x01w": {Name: ":method", Value: "w"},
		"\x00\x00\x00": {}, "\x10\x01n\x01w": {Name: "n", Value: "w"}, "\x40\x01n\x01w": {Name: "n", Value: "w"},
	} {
		behind := x
		if form[0]&0xc0 == 0x40 {
			for range 100 {
				behind = impl.AddField(behind, f)
			}
		}
		block := strings.Repeat(form, 100)
		checkBlock(t, fmt.Sprintf("100 fields %x", form), x, 4096, block, slices.Repeat([]impl.Field{f}, 100), behind)
		checkBlock(t, fmt.Sprintf("two sizes and 100 fields %x", form), x, 4096, sizeTold(0)+sizeTold(4096)+block, slices.Repeat([]impl.Field{f}, 100), behind)
		for _, more := range []string{"\x82", "\x42\x01w", "\x02\x01w", "\x12\x01w", "\x00\x00\x00"} {
			checkFault(t, fmt.Sprintf("101 fields %x, %x", form, more), x, 4096, block+more, impl.BlockMany)
		}
		checkFault(t, fmt.Sprintf("102 fields %x", form), x, 4096, block+form+form, impl.BlockMany)
		checkFault(t, fmt.Sprintf("1000 fields %x", form), x, 4096, strings.Repeat(form, 1000), impl.BlockMany)
	}
	// Sizes are no fields.
	checkBlock(t, "200 sizes", x, 4096, strings.Repeat("\x20", 200)+sizeTold(9), nil, impl.Table{Max: 9})
}

// faultPieces are pieces of blocks with a fault, wherever they stand, behind a field or not, with whatever behind them.
var faultPieces = []struct {
	b    string
	code int
}{
	{"\x40\x81\x00\x01w", impl.BlockEnd},
	{"\x02\x81\xff", impl.BlockEnd},
	{"\x10\x01n\x84\xff\xff\xff\xff", impl.BlockEnd},
	{"\xff\x80\x80\x80\x80\x00", impl.BlockEnd},
	{"\x7f\xff\xff\xff\xff\x01", impl.BlockEnd},
	{"\x80", impl.BlockIndex},
	{"\xff\x00", impl.BlockIndex},
	{"\x7f\x40\x01w", impl.BlockIndex},
	{"\x0f\x70\x01w", impl.BlockIndex},
	{"\x1f\x70\x01w", impl.BlockIndex},
	{"\x3f\xe2\x1f", impl.BlockSize},
	{"\x3f\xff\xff\x7f", impl.BlockSize},
	{"\x82\x20", impl.BlockSize},
	{"\x00\x00\x00\x3f\x00", impl.BlockSize},
	{strings.Repeat("\x82", 101), impl.BlockMany},
	{strings.Repeat("\x40\x01n\x01w", 101), impl.BlockMany},
}

func TestTheFirstFaultCounts(t *testing.T) {
	x := impl.Table{Max: 160, Fields: []impl.Field{sized("a", 40), sized("b", 40)}}
	for _, front := range []string{"", "\x20", "\x82", "\x20\x82", "\x40\x01n\x01w"} {
		for _, one := range faultPieces {
			for _, two := range faultPieces {
				title := fmt.Sprintf("%.12x ahead of %.12x, behind %x", one.b, two.b, front)
				checkFault(t, title, x, 4096, front+one.b, one.code)
				checkFault(t, title, x, 4096, front+one.b+two.b, one.code)
				checkFault(t, title, x, 4096, front+one.b+"\x82"+two.b, one.code)
			}
			for _, cut := range []string{"\xff", "\x40", "\x41\x05a", "\x3f"} {
				checkFault(t, fmt.Sprintf("%.12x ahead of the cut %x", one.b, cut), x, 4096, front+one.b+cut, one.code)
			}
		}
	}
}

// Within one field the number is met ahead of the texts, and the name ahead of the value.
func TestTheFirstFaultWithinAField(t *testing.T) {
	x := impl.Table{Max: 160}
	for _, form := range namedForms {
		none := lead(form.bits, form.first, 62)
		for _, rest := range []string{"", "\x01", "\x81\x00", "\x81\xff", "\x7f"} {
			checkFault(t, fmt.Sprintf("no field's name, then %x", rest), x, 4096, none+rest, impl.BlockIndex)
		}
	}
	// A number that is not whole tells no field and no size yet.
	checkFault(t, "a cut size above most", x, 4096, "\x3f\xff\xff", impl.BlockEnd)
	checkFault(t, "a wrong size above most", x, 4096, "\x3f\xff\xff\xff\xff\x01", impl.BlockEnd)
	checkFault(t, "a cut size behind a field", x, 4096, "\x82\x3f", impl.BlockEnd)
	checkFault(t, "a size above most, behind a field", x, 4096, "\x82"+sizeTold(4097), impl.BlockSize)
	// What is not there whole, or is of no field, is no 101st field yet.
	hundred := strings.Repeat("\x82", 100)
	checkFault(t, "100 fields and a cut one", x, 4096, hundred+"\xff", impl.BlockEnd)
	checkFault(t, "100 fields and a wrong text", x, 4096, hundred+"\x40\x81\x00\x00", impl.BlockEnd)
	checkFault(t, "100 fields and none's number", x, 4096, hundred+"\x80", impl.BlockIndex)
	checkFault(t, "100 fields and a size", x, 4096, hundred+"\x20", impl.BlockSize)
}

// fieldsOfRound are fields by a fixed rule: some of the first ones, some again and again, some new ones, short and long.
func fieldsOfRound(round int) []impl.Field {
	first := docFields()
	out := []impl.Field{}
	at := uint32(round)*2654435761 + 12345
	next := func(n int) int {
		at = at*1664525 + 1013904223
		return int(at>>8) % n
	}
	for range next(101) {
		switch next(8) {
		case 0:
			out = append(out, first[next(61)])
		case 1:
			out = append(out, impl.Field{Name: first[next(61)].Name, Value: fmt.Sprint(next(50))})
		case 2:
			out = append(out, impl.Field{Name: "authorization", Value: fmt.Sprint("secret", next(3))})
		case 3:
			out = append(out, impl.Field{Name: fmt.Sprint("n", next(4)), Value: strings.Repeat("v", next(300))})
		case 4:
			out = append(out, impl.Field{Name: string([]byte{byte(next(256)), byte(next(256))}), Value: string([]byte{byte(next(256))})})
		case 5:
			out = append(out, impl.Field{})
		case 6:
			out = append(out, impl.Field{Name: strings.Repeat("\x00", next(200)), Value: strings.Repeat("!", next(200))})
		default:
			out = append(out, impl.Field{Name: fmt.Sprint("upload-", next(6)), Value: fmt.Sprint(next(20))})
		}
	}
	return out
}

// Promise 5: fields come back of their block, and both tables stay the same, also over several blocks.
func TestFieldsComeBackOfTheirBlocks(t *testing.T) {
	for _, top := range []int{0, 31, 32, 40, 100, 500, 4095, 4096} {
		writes, reads := impl.Table{Max: top}, impl.Table{Max: top}
		for round := range 40 {
			l := fieldsOfRound(round)
			var b []byte
			b, writes = impl.PutFields(writes, l)
			got, y, code := impl.GetFields(reads, 4096, b)
			if code != impl.BlockGood || !slices.Equal(got, l) {
				t.Fatalf("Max %d, round %d: code %d, %d fields of %d", top, round, code, len(got), len(l))
			}
			reads = y
			if !sameTable(reads, writes) || !impl.TableOk(reads) {
				t.Fatalf("Max %d, round %d: tables of %d and %d fields", top, round, len(reads.Fields), len(writes.Fields))
			}
		}
	}
}

func TestFieldsOfAllModesComeBack(t *testing.T) {
	for _, top := range []int{0, 100, 4096} {
		writes, reads := impl.Table{Max: top}, impl.Table{Max: top}
		for round := range 20 {
			l := fieldsOfRound(round + 100)
			b := []byte{}
			for i, f := range l {
				var piece []byte
				piece, writes = impl.PutField(writes, f, 1+(i+round)%3)
				b = append(b, piece...)
			}
			got, y, code := impl.GetFields(reads, 0, b)
			if code != impl.BlockGood || !slices.Equal(got, l) || !sameTable(y, writes) {
				t.Fatalf("Max %d, round %d: code %d, %d fields of %d", top, round, code, len(got), len(l))
			}
			reads = y
		}
	}
}

// A size told ahead of a block, with the writer's table as great: both tables stay the same.
func TestTablesStayTheSameOverSizes(t *testing.T) {
	writes, reads := impl.Table{Max: 4096}, impl.Table{Max: 4096}
	for round := range 60 {
		size := round * 997 % 4097
		writes = impl.Resize(writes, size)
		l := fieldsOfRound(round + 200)
		var b []byte
		b, writes = impl.PutFields(writes, l)
		got, y, code := impl.GetFields(reads, 4096, append([]byte(sizeTold(size)), b...))
		if code != impl.BlockGood || !slices.Equal(got, l) || !sameTable(y, writes) {
			t.Fatalf("round %d, size %d: code %d, %d fields of %d", round, size, code, len(got), len(l))
		}
		reads = y
	}
}

// What is refused leaves nothing behind: the table is as good as it was.
func TestAFaultLeavesTheTable(t *testing.T) {
	x := tableOf(160, 40, "abc")
	for _, piece := range faultPieces {
		_, y, code := impl.GetFields(x, 4096, []byte(sizeTold(0)+sizeTold(4096)+"\x40\x01n\x01w"+piece.b))
		if code != piece.code || !sameTable(y, x) {
			t.Errorf("%.12x: code %d, %v", piece.b, code, y)
		}
		checkBlock(t, "behind a fault", y, 4096, "\xbe", []impl.Field{sized("a", 40)}, x)
	}
}

func TestTextsLeaveTheirArgumentsAlone(t *testing.T) {
	for _, spare := range []int{0, 1, 20, 300} {
		for _, s := range []string{"", "a", "www.example.com", strings.Repeat("\x00", 200)} {
			b, all := roomy("head", spare)
			before := string(all)
			one, two := impl.PutString(b, s), impl.PutString(b, s)
			if string(all) != before {
				t.Errorf("PutString(%q) with %d spare wrote into its argument", s, spare)
			}
			answer := string(one)
			turnAll(two)
			if string(all) != before || string(one) != answer {
				t.Errorf("PutString(%q) with %d spare: its answer shares memory", s, spare)
			}
			turnAll(all)
			if string(one) != answer {
				t.Errorf("PutString(%q) with %d spare: its answer changes with its argument", s, spare)
			}
			for _, text := range []string{plainText(s), codedText(s), "\x81\x00", "\x7f"} {
				b, all := roomy(text, spare)
				before := string(all)
				got, next, ok := impl.GetString(b, 0)
				if string(all) != before {
					t.Errorf("GetString(%.20x) with %d spare wrote into its argument", text, spare)
				}
				kept := strings.Clone(got)
				turnAll(all)
				if got != kept || ok && (got != s || next != len(text)) {
					t.Errorf("GetString(%.20x) with %d spare: %q, %d", text, spare, got, next)
				}
			}
		}
	}
}

func TestPuttingFieldsLeavesTheTableAlone(t *testing.T) {
	for _, spare := range []int{0, 1, 5} {
		for _, x := range []impl.Table{{Max: 4096}, tableOf(160, 40, "abc"), tableOf(120, 40, "abc"), tableOf(119, 40, "abc"), tableOf(4097, 40, "a")} {
			for _, f := range []impl.Field{{Name: ":method", Value: "GET"}, sized("a", 40), sized("a", 50), sized("N", 40), sized("N", 200), {Name: "authorization", Value: "x"}} {
				for mode := range 5 {
					checkTableMemory(t, fmt.Sprint("PutField ", f.Name, mode, x.Max), x, spare, func(y impl.Table) impl.Table {
						_, z := impl.PutField(y, f, mode)
						return z
					})
				}
				for count := range 4 {
					checkTableMemory(t, fmt.Sprint("PutFields ", f.Name, count, x.Max), x, spare, func(y impl.Table) impl.Table {
						_, z := impl.PutFields(y, slices.Repeat([]impl.Field{f}, count))
						return z
					})
				}
			}
		}
	}
}

func TestGettingFieldsLeavesTheTableAlone(t *testing.T) {
	blocks := []string{"", "\x82", "\xbe", sizeTold(0), sizeTold(160), "\x40\x01n\x01w", "\x00\x01n\x01w", "\x7e\x01w", "\x82\x20", "\x80", "\xff"}
	for _, piece := range faultPieces {
		blocks = append(blocks, piece.b, "\x40\x01n\x01w"+piece.b)
	}
	for _, spare := range []int{0, 1, 5} {
		for _, x := range []impl.Table{{Max: 4096}, tableOf(160, 40, "abc"), tableOf(120, 40, "abc"), tableOf(119, 40, "abc")} {
			for _, b := range blocks {
				for _, most := range []int{-1, 0, 4096} {
					checkTableMemory(t, fmt.Sprintf("GetFields %.12x, most %d", b, most), x, spare, func(y impl.Table) impl.Table {
						_, z, _ := impl.GetFields(y, most, []byte(b))
						return z
					})
				}
			}
		}
	}
}

func TestPutFieldsLeavesTheListAlone(t *testing.T) {
	list, all := roomyFields([]impl.Field{{Name: "a", Value: "1"}, {Name: "b", Value: "2"}, {Name: "authorization", Value: "x"}}, 4)
	ahead := slices.Clone(all)
	b, y := impl.PutFields(impl.Table{Max: 200}, list)
	if !slices.Equal(all, ahead) {
		t.Errorf("the list is written into: %q", all)
	}
	kept, fields := string(b), slices.Clone(y.Fields)
	turnFields(all)
	if string(b) != kept || !slices.Equal(y.Fields, fields) {
		t.Errorf("the answer changes with the list: %x, %v", b, y)
	}
	turnFields(y.Fields)
	if again, _ := impl.PutFields(impl.Table{Max: 200}, ahead[:3]); string(again) != kept {
		t.Errorf("the second answer is %x, not %x", again, kept)
	}
	if slices.Contains(y.Fields, spareField) || bytes.Contains(b, []byte("spare")) {
		t.Errorf("the spare room is read: %x", b)
	}
}

func TestGetFieldsLeavesTheBlockAlone(t *testing.T) {
	for _, data := range []string{"", "\x82", "\x40\x01n\x01w\xbe", "\x00" + codedText("www.example.com") + plainText("www.example.com"), "\x40\x05abc", "\x80"} {
		want, table, code := impl.GetFields(impl.Table{Max: 4096}, 4096, []byte(data))
		for _, spare := range []int{0, 1, 20} {
			b, all := roomy(data, spare)
			before := string(all)
			l, y, c := impl.GetFields(impl.Table{Max: 4096}, 4096, b)
			if string(all) != before {
				t.Errorf("%.20x with %d spare is written into", data, spare)
			}
			turnAll(all)
			if !slices.Equal(l, want) || !sameTable(y, table) || c != code {
				t.Errorf("%.20x with %d spare: %q, %v, %d", data, spare, l, y, c)
			}
			// The fields and the table are two lists: neither changes with the other.
			turnFields(l)
			if !sameTable(y, table) {
				t.Errorf("%.20x: the table changes with the fields", data)
			}
		}
	}
}
