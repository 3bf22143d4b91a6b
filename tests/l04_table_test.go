package tests

import (
	"fmt"
	"math"
	"slices"
	"strings"
	"testing"

	"loop.example/g00199/impl"
)

// docFirst is the list of the first fields in the document's own words.
const docFirst = "`:authority`; `:method` `GET`; `:method` `POST`; `:path` `/`; `:path` `/index.html`; `:scheme` `http`; `:scheme` `https`; " +
	"`:status` `200`; `:status` `204`; `:status` `206`; `:status` `304`; `:status` `400`; `:status` `404`; `:status` `500`; " +
	"`accept-charset`; `accept-encoding` `gzip, deflate`; `accept-language`; `accept-ranges`; `accept`; `access-control-allow-origin`; " +
	"`age`; `allow`; `authorization`; `cache-control`; `content-disposition`; `content-encoding`; `content-language`; `content-length`; " +
	"`content-location`; `content-range`; `content-type`; `cookie`; `date`; `etag`; `expect`; `expires`; `from`; `host`; `if-match`; " +
	"`if-modified-since`; `if-none-match`; `if-range`; `if-unmodified-since`; `last-modified`; `link`; `location`; `max-forwards`; " +
	"`proxy-authenticate`; `proxy-authorization`; `range`; `referer`; `refresh`; `retry-after`; `server`; `set-cookie`; " +
	"`strict-transport-security`; `transfer-encoding`; `user-agent`; `vary`; `via`; `www-authenticate`"

func docFields() []impl.Field {
	var out []impl.Field
	for row := range strings.SplitSeq(docFirst, "; ") {
		texts := strings.Split(row, "`")
		f := impl.Field{Name: texts[1]}
		if len(texts) > 3 {
			f.Value = texts[3]
		}
		out = append(out, f)
	}
	return out
}

// spareField fills the room behind a list of fields, so that a write there is seen.
var spareField = impl.Field{Name: "spare", Value: "room"}

// roomyFields is a list of these fields with spare room behind it, and all of its memory.
func roomyFields(l []impl.Field, spare int) ([]impl.Field, []impl.Field) {
	all := slices.Concat(l, slices.Repeat([]impl.Field{spareField}, spare))
	return all[:len(l)], all
}

// turnFields changes each field of a list, those of its spare room, too.
func turnFields(l []impl.Field) {
	l = l[:cap(l)]
	for i := range l {
		l[i].Name += "?"
		l[i].Value += "?"
	}
}

// sized is a field of a name that counts as so many bytes.
func sized(name string, size int) impl.Field {
	return impl.Field{Name: name, Value: strings.Repeat("v", size-32-len(name))}
}

// tableOf has the fields of these names, the first the newest, each of so many bytes.
func tableOf(top int, size int, names string) impl.Table {
	t := impl.Table{Max: top}
	for _, name := range names {
		t.Fields = append(t.Fields, sized(string(name), size))
	}
	return t
}

func sameTable(a impl.Table, b impl.Table) bool {
	return a.Max == b.Max && slices.Equal(a.Fields, b.Fields)
}

func namesIn(t impl.Table) string {
	out := ""
	for _, f := range t.Fields {
		out += f.Name
	}
	return out
}

// cutTo is a list without its oldest, as far as the others must count as no more than most.
func cutTo(l []impl.Field, most int) []impl.Field {
	size, count := 0, 0
	for _, f := range l {
		size += 32 + len(f.Name) + len(f.Value)
		if size > most {
			break
		}
		count++
	}
	return l[:count]
}

func TestMaxTable(t *testing.T) {
	if impl.MaxTable != 4096 {
		t.Errorf("MaxTable = %d", impl.MaxTable)
	}
}

func TestFirstFields(t *testing.T) {
	want := docFields()
	if len(want) != 61 {
		t.Fatalf("the document has %d first fields", len(want))
	}
	filled := tableOf(impl.MaxTable, 40, "xyz")
	for at, w := range want {
		if f, ok := impl.FirstField(at + 1); !ok || f != w {
			t.Errorf("FirstField(%d) = %q, %v, not %q", at+1, f, ok, w)
		}
		for _, x := range []impl.Table{{}, filled} {
			if f, ok := impl.FieldAt(x, at+1); !ok || f != w {
				t.Errorf("FieldAt(%q, %d) = %q, %v, not %q", namesIn(x), at+1, f, ok, w)
			}
		}
	}
}

func TestFirstFieldRefuses(t *testing.T) {
	for _, i := range []int{math.MinInt, -61, -1, 0, 62, 63, 256, math.MaxInt} {
		if f, ok := impl.FirstField(i); ok || f != (impl.Field{}) {
			t.Errorf("FirstField(%d) = %q, %v", i, f, ok)
		}
	}
}

func TestFieldAtOfTheTable(t *testing.T) {
	x := impl.Table{Max: 200, Fields: []impl.Field{{Name: "new", Value: "1"}, {}, {Name: "", Value: "2"}, {Name: "old"}}}
	for at, w := range x.Fields {
		if f, ok := impl.FieldAt(x, 62+at); !ok || f != w {
			t.Errorf("FieldAt(%d) = %q, %v, not %q", 62+at, f, ok, w)
		}
	}
}

func TestFieldAtRefuses(t *testing.T) {
	for count := range 4 {
		x := tableOf(200, 40, "abc"[:count])
		for _, i := range []int{math.MinInt, math.MinInt + 61, math.MinInt + 62, -62, -1, 0, 62 + count, 63 + count, math.MaxInt} {
			if f, ok := impl.FieldAt(x, i); ok || f != (impl.Field{}) {
				t.Errorf("FieldAt of %d fields, %d: %q, %v", count, i, f, ok)
			}
		}
	}
}

func TestFieldAtDoesNotReadTheSpareRoom(t *testing.T) {
	list, _ := roomyFields([]impl.Field{{Name: "a"}}, 3)
	x := impl.Table{Max: 100, Fields: list}
	if f, ok := impl.FieldAt(x, 63); ok || f != (impl.Field{}) {
		t.Errorf("FieldAt(63) = %q, %v", f, ok)
	}
	if i, both := impl.FindField(x, spareField); i != 0 || both {
		t.Errorf("FindField of what is behind the list: %d, %v", i, both)
	}
	if size := impl.SizeOf(x); size != 33 {
		t.Errorf("SizeOf = %d", size)
	}
}

func TestSizeOf(t *testing.T) {
	for _, x := range []struct {
		fields []impl.Field
		want   int
	}{
		{nil, 0},
		{[]impl.Field{}, 0},
		{[]impl.Field{{}}, 32},
		{[]impl.Field{{Name: "a"}}, 33},
		{[]impl.Field{{Value: "a"}}, 33},
		{[]impl.Field{{Name: "ab", Value: "cde"}}, 37},
		{[]impl.Field{{Name: "é", Value: "\x00\xff"}}, 36},
		{[]impl.Field{{}, {}, {}}, 96},
		{[]impl.Field{{Name: "custom-key", Value: "custom-header"}, {Name: "custom-key", Value: "custom-header"}}, 110},
		{slices.Repeat([]impl.Field{{}}, 129), 4128},
		{[]impl.Field{{Name: strings.Repeat("n", 5000), Value: strings.Repeat("v", 6000)}}, 11032},
	} {
		for _, top := range []int{-1, 0, 100, 4096, 4097} {
			if size := impl.SizeOf(impl.Table{Max: top, Fields: x.fields}); size != x.want {
				t.Errorf("SizeOf of Max %d and %d fields = %d, not %d", top, len(x.fields), size, x.want)
			}
		}
	}
}

func TestTableOk(t *testing.T) {
	for _, x := range []struct {
		table impl.Table
		want  bool
	}{
		{impl.Table{}, true},
		{impl.Table{Max: 1}, true},
		{impl.Table{Max: 4095}, true},
		{impl.Table{Max: 4096}, true},
		{impl.Table{Max: 4097}, false},
		{impl.Table{Max: math.MaxInt}, false},
		{impl.Table{Max: -1}, false},
		{impl.Table{Max: math.MinInt}, false},
		{impl.Table{Max: 0, Fields: []impl.Field{{}}}, false},
		{impl.Table{Max: 31, Fields: []impl.Field{{}}}, false},
		{impl.Table{Max: 32, Fields: []impl.Field{{}}}, true},
		{tableOf(120, 40, "abc"), true},
		{tableOf(119, 40, "abc"), false},
		{impl.Table{Max: 4096, Fields: slices.Repeat([]impl.Field{{}}, 128)}, true},
		{impl.Table{Max: 4095, Fields: slices.Repeat([]impl.Field{{}}, 128)}, false},
		{impl.Table{Max: 4096, Fields: slices.Repeat([]impl.Field{{}}, 129)}, false},
		{tableOf(4096, 4096, "a"), true},
		{tableOf(4096, 4097, "a"), false},
		{tableOf(4097, 4097, "a"), false},
		{impl.Table{Max: 100, Fields: []impl.Field{{Name: "a"}, {Name: "a"}}}, true},
	} {
		if ok := impl.TableOk(x.table); ok != x.want {
			t.Errorf("TableOk of Max %d, %d fields = %v", x.table.Max, len(x.table.Fields), ok)
		}
	}
}

func TestAddField(t *testing.T) {
	for _, x := range []struct {
		title string
		table impl.Table
		size  int
		want  string
	}{
		{"the first one", tableOf(100, 40, ""), 40, "N"},
		{"room is left", tableOf(121, 40, "ab"), 40, "Nab"},
		{"just as full as Max", tableOf(120, 40, "ab"), 40, "Nab"},
		{"one byte too much", tableOf(119, 40, "ab"), 40, "Na"},
		{"one is gone", tableOf(160, 40, "abcd"), 40, "Nabc"},
		{"one leaves just room", tableOf(160, 40, "abcd"), 34, "Nabc"},
		{"two are gone for one byte", tableOf(160, 40, "abcd"), 41, "Nab"},
		{"several leave just room", tableOf(160, 40, "abcd"), 120, "Na"},
		{"all are gone for one byte", tableOf(160, 40, "abcd"), 121, "N"},
		{"it just fits alone", tableOf(160, 40, "abcd"), 160, "N"},
		{"too much alone by one byte", tableOf(160, 40, "abcd"), 161, ""},
		{"too much alone by far", tableOf(160, 40, "abcd"), 9000, ""},
		{"it just fits an empty table", tableOf(50, 40, ""), 50, "N"},
		{"too much for an empty table", tableOf(50, 40, ""), 51, ""},
		{"no room at all", tableOf(0, 40, ""), 33, ""},
		{"Max is 1", tableOf(1, 40, ""), 33, ""},
		{"it fills MaxTable", tableOf(4096, 40, "ab"), 4096, "N"},
		{"too much for MaxTable", tableOf(4096, 40, "ab"), 4097, ""},
		{"it fills what is left of MaxTable", tableOf(4096, 40, "ab"), 4016, "Nab"},
		{"one byte more than is left of MaxTable", tableOf(4096, 40, "ab"), 4017, "Na"},
	} {
		f := sized("N", x.size)
		got := impl.AddField(x.table, f)
		if namesIn(got) != x.want || got.Max != x.table.Max {
			t.Errorf("%s: %q of Max %d, not %q of %d", x.title, namesIn(got), got.Max, x.want, x.table.Max)
		}
		if x.want != "" && got.Fields[0] != f {
			t.Errorf("%s: the newest is %q", x.title, got.Fields[0])
		}
	}
}

func TestAddFieldOldestOfUnlikeSizes(t *testing.T) {
	x := impl.Table{Max: 300, Fields: []impl.Field{sized("a", 33), sized("b", 200), sized("c", 34), sized("d", 33)}}
	for size, want := range map[int]string{
		33: "Nabc", 34: "Nab", 67: "Nab", 68: "Na", 200: "Na", 267: "Na", 268: "N", 300: "N", 301: "",
	} {
		if got := impl.AddField(x, sized("N", size)); namesIn(got) != want {
			t.Errorf("a field of %d: %q, not %q", size, namesIn(got), want)
		}
	}
}

func TestAddFieldTwice(t *testing.T) {
	f := impl.Field{Name: "twice", Value: "same"}
	x := impl.AddField(impl.AddField(impl.Table{Max: 200}, f), f)
	if want := (impl.Table{Max: 200, Fields: []impl.Field{f, f}}); !sameTable(x, want) {
		t.Errorf("put twice: %v", x)
	}
	if i, both := impl.FindField(x, f); i != 62 || !both {
		t.Errorf("FindField = %d, %v", i, both)
	}
	if got, ok := impl.FieldAt(x, 63); !ok || got != f {
		t.Errorf("FieldAt(63) = %q, %v", got, ok)
	}
	if again := impl.AddField(tableOf(80, 40, "ab"), sized("b", 40)); namesIn(again) != "ba" {
		t.Errorf("the oldest, put again: %q", namesIn(again))
	}
}

func TestAddFieldOfEmptyTexts(t *testing.T) {
	x := impl.Table{Max: 4096}
	for count := 1; count <= 300; count++ {
		x = impl.AddField(x, impl.Field{})
		if want := min(count, 128); len(x.Fields) != want || impl.SizeOf(x) != 32*want {
			t.Fatalf("%d empty fields: %d are there, of %d bytes", count, len(x.Fields), impl.SizeOf(x))
		}
	}
	for top, want := range map[int]int{0: 0, 31: 0, 32: 1, 33: 1} {
		if got := impl.AddField(impl.Table{Max: top}, impl.Field{}); len(got.Fields) != want || got.Max != top {
			t.Errorf("an empty field of Max %d: %v", top, got)
		}
	}
}

func TestAFieldThatIsPutIsTheNewest(t *testing.T) {
	for _, top := range []int{0, 32, 33, 64, 100, 500, 4095, 4096} {
		x := impl.Table{Max: top}
		model := []impl.Field{}
		for i := range 400 {
			// Sizes go up and down over Max, so that none, some and all of the others are gone.
			f := impl.Field{Name: fmt.Sprint("n", i%7), Value: strings.Repeat("w", i*i*31%(top+8))}
			ahead := x
			x = impl.AddField(x, f)
			model = cutTo(slices.Concat([]impl.Field{f}, model), top)
			if !sameTable(x, impl.Table{Max: top, Fields: model}) || !impl.TableOk(x) {
				t.Fatalf("Max %d, field %d of %d: %q of %q", top, i, 32+len(f.Name)+len(f.Value), namesIn(x), namesIn(ahead))
			}
			got, ok := impl.FieldAt(x, 62)
			fits := 32+len(f.Name)+len(f.Value) <= top
			if ok != fits || fits && got != f {
				t.Fatalf("Max %d, field %d is not the newest: %q, %v", top, i, got, ok)
			}
			if i, both := impl.FindField(x, f); both != fits || fits && i != 62 {
				t.Fatalf("Max %d: the newest is found as %d, %v", top, i, both)
			}
		}
	}
}

func wrongTables() []impl.Table {
	return []impl.Table{
		{Max: -1},
		{Max: math.MinInt},
		{Max: 4097},
		{Max: math.MaxInt},
		tableOf(-1, 40, "ab"),
		tableOf(0, 40, "a"),
		tableOf(79, 40, "ab"),
		tableOf(4097, 40, "ab"),
		tableOf(4096, 4097, "a"),
		{Max: 4096, Fields: slices.Repeat([]impl.Field{{}}, 129)},
		{Max: 4096, Fields: slices.Repeat([]impl.Field{{Name: "x"}}, 1000)},
	}
}

func TestWrongTablesStayAsTheyAre(t *testing.T) {
	for _, x := range wrongTables() {
		for _, f := range []impl.Field{{}, {Name: "a", Value: "1"}, sized("big", 5000)} {
			if got := impl.AddField(x, f); !sameTable(got, x) {
				t.Errorf("AddField of Max %d, %d fields: Max %d, %d fields", x.Max, len(x.Fields), got.Max, len(got.Fields))
			}
		}
		for _, n := range []int{-1, 0, 79, 80, 4096, 4097} {
			if got := impl.Resize(x, n); !sameTable(got, x) {
				t.Errorf("Resize(%d) of Max %d, %d fields: Max %d, %d fields", n, x.Max, len(x.Fields), got.Max, len(got.Fields))
			}
		}
	}
}

func TestWrongTablesAreReadAsTheyAre(t *testing.T) {
	for _, x := range wrongTables() {
		for at, w := range x.Fields {
			if f, ok := impl.FieldAt(x, 62+at); !ok || f != w {
				t.Errorf("FieldAt(%d) of Max %d = %q, %v", 62+at, x.Max, f, ok)
			}
			first := 62 + slices.Index(x.Fields, w)
			if i, both := impl.FindField(x, w); i != first || !both {
				t.Errorf("FindField(%q) of Max %d = %d, %v", w.Name, x.Max, i, both)
			}
		}
		if _, ok := impl.FieldAt(x, 62+len(x.Fields)); ok {
			t.Errorf("Max %d: a field behind the last", x.Max)
		}
	}
}

func TestResize(t *testing.T) {
	x := tableOf(200, 40, "abcd")
	for n, want := range map[int]string{
		0: "", 1: "", 39: "", 40: "a", 41: "a", 79: "a", 80: "ab", 119: "ab", 120: "abc",
		159: "abc", 160: "abcd", 161: "abcd", 199: "abcd", 200: "abcd", 201: "abcd", 4095: "abcd", 4096: "abcd",
	} {
		got := impl.Resize(x, n)
		if namesIn(got) != want || got.Max != n {
			t.Errorf("Resize(%d) = %q of Max %d, not %q", n, namesIn(got), got.Max, want)
		}
		if !slices.Equal(got.Fields, x.Fields[:len(want)]) {
			t.Errorf("Resize(%d) changes fields: %q", n, got.Fields)
		}
	}
	for _, n := range []int{math.MinInt, -1, 4097, math.MaxInt} {
		if got := impl.Resize(x, n); !sameTable(got, x) {
			t.Errorf("Resize(%d) = %q of Max %d", n, namesIn(got), got.Max)
		}
	}
}

func TestResizeOfTheFullTable(t *testing.T) {
	x := impl.Table{Max: 4096, Fields: slices.Repeat([]impl.Field{{}}, 128)}
	for n, want := range map[int]int{4096: 128, 4095: 127, 64: 2, 63: 1, 32: 1, 31: 0, 0: 0} {
		if got := impl.Resize(x, n); len(got.Fields) != want || got.Max != n {
			t.Errorf("Resize(%d): %d fields of Max %d", n, len(got.Fields), got.Max)
		}
	}
	empty := impl.Resize(impl.Table{}, 4096)
	if len(empty.Fields) != 0 || empty.Max != 4096 {
		t.Errorf("Resize of the zero table: %v", empty)
	}
}

func TestResizeAllNumbers(t *testing.T) {
	x := impl.Table{Max: 1000, Fields: []impl.Field{sized("a", 33), sized("b", 250), sized("c", 34), {}, sized("d", 400)}}
	for n := range 4097 {
		want := impl.Table{Max: n, Fields: cutTo(x.Fields, n)}
		if got := impl.Resize(x, n); !sameTable(got, want) {
			t.Fatalf("Resize(%d) = %q, not %q", n, namesIn(got), namesIn(want))
		}
	}
}

func TestRoomThatIsGoneDoesNotComeBack(t *testing.T) {
	x := impl.Resize(impl.Resize(tableOf(160, 40, "abcd"), 80), 160)
	if namesIn(x) != "ab" || x.Max != 160 {
		t.Errorf("there and back: %q of Max %d", namesIn(x), x.Max)
	}
	if x = impl.AddField(x, sized("N", 80)); namesIn(x) != "Nab" {
		t.Errorf("behind it: %q", namesIn(x))
	}
}

func TestFindField(t *testing.T) {
	x := impl.Table{Max: 4096, Fields: []impl.Field{
		{Name: "own", Value: "2"}, {Name: "own", Value: "1"}, {Name: "own", Value: "2"},
		{Name: ":method", Value: "PATCH"}, {Name: ":status", Value: "200"}, {Name: "age", Value: ""},
		{Name: "", Value: "x"}, {Name: "", Value: ""}, {Name: "bare", Value: ""}, {Name: "cookie", Value: "c"},
	}}
	for _, w := range []struct {
		f    impl.Field
		i    int
		both bool
	}{
		{impl.Field{Name: "own", Value: "2"}, 62, true},
		{impl.Field{Name: "own", Value: "1"}, 63, true},
		{impl.Field{Name: "own", Value: "3"}, 62, false},
		{impl.Field{Name: "own", Value: ""}, 62, false},
		{impl.Field{Name: ":method", Value: "GET"}, 2, true},
		{impl.Field{Name: ":method", Value: "POST"}, 3, true},
		{impl.Field{Name: ":method", Value: "PATCH"}, 65, true},
		{impl.Field{Name: ":method", Value: "PUT"}, 2, false},
		{impl.Field{Name: ":method", Value: ""}, 2, false},
		{impl.Field{Name: ":status", Value: "200"}, 8, true},
		{impl.Field{Name: ":status", Value: "500"}, 14, true},
		{impl.Field{Name: ":status", Value: "501"}, 8, false},
		{impl.Field{Name: "age", Value: ""}, 21, true},
		{impl.Field{Name: "age", Value: "1"}, 21, false},
		{impl.Field{Name: "cookie", Value: "c"}, 71, true},
		{impl.Field{Name: "cookie", Value: "d"}, 32, false},
		{impl.Field{Name: "cookie", Value: ""}, 32, true},
		{impl.Field{Name: "", Value: "x"}, 68, true},
		{impl.Field{Name: "", Value: ""}, 69, true},
		{impl.Field{Name: "", Value: "y"}, 68, false},
		{impl.Field{Name: "bare", Value: ""}, 70, true},
		{impl.Field{Name: "bare", Value: "x"}, 70, false},
		{impl.Field{Name: "none", Value: "x"}, 0, false},
		{impl.Field{Name: "none", Value: ""}, 0, false},
		{impl.Field{Name: "Own", Value: "2"}, 0, false},
		{impl.Field{Name: "ow", Value: "n2"}, 0, false},
		{impl.Field{Name: "own2", Value: ""}, 0, false},
		{impl.Field{Name: "2", Value: "own"}, 0, false},
	} {
		if i, both := impl.FindField(x, w.f); i != w.i || both != w.both {
			t.Errorf("FindField(%q) = %d, %v, not %d, %v", w.f, i, both, w.i, w.both)
		}
	}
}

func TestFindFieldOfAnEmptyTable(t *testing.T) {
	seen := map[string]int{}
	for at, f := range docFields() {
		if seen[f.Name] == 0 {
			seen[f.Name] = at + 1
		}
		if i, both := impl.FindField(impl.Table{}, f); i != at+1 || !both {
			t.Errorf("FindField(%q) = %d, %v, not %d", f, i, both, at+1)
		}
		f.Value += "!"
		if i, both := impl.FindField(impl.Table{}, f); i != seen[f.Name] || both {
			t.Errorf("FindField(%q) = %d, %v, not %d", f, i, both, seen[f.Name])
		}
	}
	if i, both := impl.FindField(impl.Table{}, impl.Field{}); i != 0 || both {
		t.Errorf("FindField of the zero field = %d, %v", i, both)
	}
}

func TestFindFieldOfTheFullTable(t *testing.T) {
	x := impl.Table{Max: 4096}
	for i := range 113 {
		x = impl.AddField(x, impl.Field{Name: fmt.Sprint("a", 100+i)})
	}
	for at, f := range x.Fields {
		if i, both := impl.FindField(x, f); i != 62+at || !both {
			t.Errorf("FindField(%q) = %d, %v", f, i, both)
		}
	}
	if len(x.Fields) != 113 {
		t.Errorf("%d fields are there", len(x.Fields))
	}
}

// checkTableMemory asks that a call leaves a table and its spare room alone, and that its answer has memory of its own.
func checkTableMemory(t *testing.T, title string, x impl.Table, spare int, call func(impl.Table) impl.Table) {
	t.Helper()
	list, all := roomyFields(x.Fields, spare)
	ahead := slices.Clone(all)
	arg := impl.Table{Max: x.Max, Fields: list}
	got := call(arg)
	if !slices.Equal(all, ahead) {
		t.Errorf("%s, %d spare: the argument is written into", title, spare)
	}
	kept := slices.Clone(got.Fields)
	turnFields(all)
	if !slices.Equal(got.Fields, kept) {
		t.Errorf("%s, %d spare: the answer changes with the argument", title, spare)
	}
	turned := slices.Clone(all)
	turnFields(got.Fields)
	if !slices.Equal(all, turned) {
		t.Errorf("%s, %d spare: the argument changes with the answer", title, spare)
	}
	if again := call(x); !slices.Equal(again.Fields, kept) || again.Max != got.Max {
		t.Errorf("%s, %d spare: the second answer is another one", title, spare)
	}
}

func TestTablesLeaveTheirArgumentsAlone(t *testing.T) {
	add := func(size int) func(impl.Table) impl.Table {
		return func(x impl.Table) impl.Table { return impl.AddField(x, sized("N", size)) }
	}
	resize := func(n int) func(impl.Table) impl.Table {
		return func(x impl.Table) impl.Table { return impl.Resize(x, n) }
	}
	for _, spare := range []int{0, 1, 5} {
		for _, names := range []string{"", "a", "abc"} {
			for _, top := range []int{-1, 0, 40, 119, 120, 160, 4096, 4097} {
				x := tableOf(top, 40, names)
				for _, size := range []int{33, 40, 100, 120, 160, 161, 4096, 4097} {
					checkTableMemory(t, fmt.Sprint("AddField ", names, top, size), x, spare, add(size))
				}
				for _, n := range []int{-1, 0, 40, 80, 119, 120, top, 4096, 4097} {
					checkTableMemory(t, fmt.Sprint("Resize ", names, top, n), x, spare, resize(n))
				}
			}
		}
	}
}

func TestReadingATableWritesNothing(t *testing.T) {
	list, all := roomyFields([]impl.Field{{Name: "b", Value: "2"}, {Name: "a", Value: "1"}, {Name: "b", Value: "2"}}, 4)
	ahead := slices.Clone(all)
	x := impl.Table{Max: 200, Fields: list}
	impl.SizeOf(x)
	impl.TableOk(x)
	for i := -1; i < 70; i++ {
		impl.FieldAt(x, i)
	}
	impl.FindField(x, impl.Field{Name: "a", Value: "1"})
	impl.FindField(x, impl.Field{Name: "c", Value: "1"})
	if !slices.Equal(all, ahead) {
		t.Errorf("the table is written into: %q", all)
	}
}

func TestAnswersOfTablesDoNotChangeOneAnother(t *testing.T) {
	one := impl.AddField(tableOf(200, 40, "ab"), sized("N", 40))
	for title, two := range map[string]impl.Table{
		"AddField": impl.AddField(one, sized("M", 40)),
		"Resize":   impl.Resize(one, 4096),
		"wrong":    impl.Resize(one, -1),
	} {
		turnFields(two.Fields)
		if namesIn(one) != "Nab" {
			t.Errorf("behind %s: %q", title, namesIn(one))
		}
	}
}
