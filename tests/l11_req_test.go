package tests

import (
	"fmt"
	"math"
	"math/big"
	"regexp"
	"slices"
	"strconv"
	"strings"
	"testing"

	"loop.example/g00199/impl"
)

const topNumber = 1000000000

// docOps are the Ops in the document's words: the method, the field of the number, and the greatest one.
var docOps = []struct {
	op             int
	method, number string
	top            int
}{
	{impl.OpMake, "POST", "upload-length", topNumber},
	{impl.OpAsk, "HEAD", "", 0},
	{impl.OpSend, "PATCH", "upload-offset", topNumber},
	{impl.OpDone, "PUT", "upload-sum", topWord},
	{impl.OpRead, "GET", "", 0},
	{impl.OpDrop, "DELETE", "", 0},
}

// fieldsBy has fields of these pairs: a name, and a value.
func fieldsBy(pairs ...string) []impl.Field {
	l := []impl.Field{}
	for pair := range slices.Chunk(pairs, 2) {
		l = append(l, impl.Field{Name: pair[0], Value: pair[1]})
	}
	return l
}

// askedBy has the fields that each request has, of this method and path, and others behind them.
func askedBy(method string, path string, pairs ...string) []impl.Field {
	return slices.Concat(fieldsBy(":method", method, ":scheme", "https", ":path", path), fieldsBy(pairs...))
}

func checkReq(t *testing.T, l []impl.Field, want impl.Req) {
	t.Helper()
	if r, code := impl.ReqOf(l); code != impl.ReqGood || r != want {
		t.Errorf("ReqOf(%.300q) = %+v, %d, not %+v", l, r, code, want)
	}
}

// checkNoReq asks for the fault, and the zero request beside it.
func checkNoReq(t *testing.T, l []impl.Field, want int) {
	t.Helper()
	if r, code := impl.ReqOf(l); code != want || r != (impl.Req{}) {
		t.Errorf("ReqOf(%.300q) = %+v, %d, not the zero one, %d", l, r, code, want)
	}
}

// checkReqOk asks for the fields as well: of what is not right there are none.
func checkReqOk(t *testing.T, r impl.Req, want bool) {
	t.Helper()
	if got := impl.ReqOk(r); got != want {
		t.Errorf("ReqOk(%+v) = %v", r, got)
	}
	l := impl.FieldsOf(r)
	if !want && len(l) != 0 {
		t.Errorf("FieldsOf(%+v) = %q", r, l)
	}
	if want {
		checkReq(t, l, r)
	}
}

func TestConstantsOfRequests(t *testing.T) {
	ops := []int{impl.OpMake, impl.OpAsk, impl.OpSend, impl.OpDone, impl.OpRead, impl.OpDrop}
	if !slices.Equal(ops, []int{1, 2, 3, 4, 5, 6}) {
		t.Errorf("Ops are %v", ops)
	}
	codes := []int{impl.ReqGood, impl.ReqForm, impl.ReqMethod, impl.ReqPath, impl.ReqNumber}
	if !slices.Equal(codes, []int{0, 1, 2, 3, 4}) {
		t.Errorf("codes are %v", codes)
	}
}

func TestReqOkByOps(t *testing.T) {
	for op := 1; op <= 6; op++ {
		checkReqOk(t, impl.Req{Op: op, Id: "a"}, true)
	}
	for _, op := range slices.Concat(greatNumbers, []int{-1, 0, 7, 8, -2, -6, 100, 256, 257, 1<<16 + 1}) {
		checkReqOk(t, impl.Req{Op: op, Id: "a"}, false)
		checkReqOk(t, impl.Req{Op: op, Id: "a", N: 1}, false)
		checkReqOk(t, impl.Req{Op: op}, false)
	}
	checkReqOk(t, impl.Req{}, false)
}

func TestReqOkByIds(t *testing.T) {
	for _, x := range docOps {
		for _, id := range []string{"a", "z", "0", "9", "m", "5", "az09", "up1", "abcdefgh", "01234567", "zzzzzzzz", "00000000", "a0b1c2d3"} {
			checkReqOk(t, impl.Req{Op: x.op, Id: id}, true)
		}
		for _, id := range []string{
			"", "abcdefghi", "012345678", "aaaaaaaaaaaaaaaa", strings.Repeat("a", 256), strings.Repeat("a", 257), strings.Repeat("b", 10000),
			"A", "Z", "aB", "Ab", "/", "/a", "a/", "a/b", "//", "`", "{", ":", "@", "[", "-", "_", ".", "..", " ", "a b", " a", "a ", "\n", "a\n", "\x00", "a\x00",
			"\x7f", "\x80", "\xff", "a\xff", "é", "ä", "ａ", "٣", "日", "\xc3", "%61", "a?b", "a#b",
		} {
			checkReqOk(t, impl.Req{Op: x.op, Id: id}, false)
		}
	}
}

// Each byte, as the first, in the middle, as the last, and alone.
func TestReqOkByEachByteOfAnId(t *testing.T) {
	for i := range 256 {
		c := string([]byte{byte(i)})
		good := strings.Contains("abcdefghijklmnopqrstuvwxyz0123456789", c)
		for _, id := range []string{c, c + "a", "a" + c, "a" + c + "0", c + "bcdefgh", "abcd" + c + "fgh", "abcdefg" + c} {
			checkReqOk(t, impl.Req{Op: impl.OpAsk, Id: id}, good)
			checkReqOk(t, impl.Req{Op: impl.OpSend, Id: id, N: 7}, good)
			if !good {
				checkNoReq(t, askedBy("HEAD", "/up/"+id), impl.ReqPath)
			}
		}
		checkReqOk(t, impl.Req{Op: impl.OpAsk, Id: "abcdefgh" + c}, false)
	}
}

func TestReqOkByNumbers(t *testing.T) {
	tries := []int{-1, 0, 1, 2, 9, 10, 999999999, topNumber, topNumber + 1, topNumber + 2, 1<<31 - 1, 1 << 31, topWord - 1, topWord, topWord + 1, topWord + 2, -2, -topNumber, -topNumber - 1}
	for _, x := range docOps {
		for _, n := range slices.Concat(tries, greatNumbers) {
			checkReqOk(t, impl.Req{Op: x.op, Id: "up1", N: n}, n >= 0 && n <= x.top)
			checkReqOk(t, impl.Req{Op: x.op, N: n}, false)
		}
	}
}

func TestFieldsOf(t *testing.T) {
	for _, x := range docOps {
		for _, id := range []string{"a", "up1", "abcdefgh"} {
			for _, n := range []int{0, 1, 24, 100, topNumber - 1, topNumber, topNumber + 1, topWord - 1, topWord} {
				if n > x.top {
					continue
				}
				want := fieldsBy(":method", x.method, ":scheme", "https", ":path", "/up/"+id)
				if x.number != "" {
					want = append(want, impl.Field{Name: x.number, Value: fmt.Sprint(n)})
				}
				if got := impl.FieldsOf(impl.Req{Op: x.op, Id: id, N: n}); !slices.Equal(got, want) {
					t.Errorf("FieldsOf(%d, %q, %d) = %q, not %q", x.op, id, n, got, want)
				}
			}
		}
	}
}

func TestReqOf(t *testing.T) {
	checkReq(t, askedBy("POST", "/up/up1", "upload-length", "60"), impl.Req{Op: impl.OpMake, Id: "up1", N: 60})
	checkReq(t, askedBy("HEAD", "/up/up1"), impl.Req{Op: impl.OpAsk, Id: "up1"})
	checkReq(t, askedBy("PATCH", "/up/up1", "upload-offset", "24"), impl.Req{Op: impl.OpSend, Id: "up1", N: 24})
	checkReq(t, askedBy("PUT", "/up/up1", "upload-sum", "4294967295"), impl.Req{Op: impl.OpDone, Id: "up1", N: topWord})
	checkReq(t, askedBy("GET", "/up/up1"), impl.Req{Op: impl.OpRead, Id: "up1"})
	checkReq(t, askedBy("DELETE", "/up/up1"), impl.Req{Op: impl.OpDrop, Id: "up1"})
	for _, scheme := range []string{"https", "http", "", "HTTPS", "ftp", "\xff", strings.Repeat("s", 5000)} {
		checkReq(t, fieldsBy(":method", "GET", ":scheme", scheme, ":path", "/up/a"), impl.Req{Op: impl.OpRead, Id: "a"})
	}
	for _, who := range []string{"", "example.com", "A.B:80", ":", "\x00\xff"} {
		checkReq(t, fieldsBy(":authority", who, ":method", "GET", ":scheme", "https", ":path", "/up/a"), impl.Req{Op: impl.OpRead, Id: "a"})
		checkReq(t, askedBy("GET", "/up/a", ":authority", who), impl.Req{Op: impl.OpRead, Id: "a"})
		checkReq(t, askedBy("POST", "/up/a", ":authority", who, "upload-length", "5"), impl.Req{Op: impl.OpMake, Id: "a", N: 5})
	}
	checkNoReq(t, nil, impl.ReqForm)
	checkNoReq(t, []impl.Field{}, impl.ReqForm)
	checkNoReq(t, fieldsBy("upload-length", "5"), impl.ReqForm)
}

// orders are all orders of a list.
func orders[T any](l []T) [][]T {
	if len(l) == 0 {
		return [][]T{{}}
	}
	var out [][]T
	for i := range l {
		for _, rest := range orders(slices.Concat(l[:i], l[i+1:])) {
			out = append(out, append([]T{l[i]}, rest...))
		}
	}
	return out
}

func TestReqOfHeadInAnyOrder(t *testing.T) {
	head := fieldsBy(":method", "PATCH", ":scheme", "https", ":path", "/up/x9", ":authority", "here")
	for count := 3; count <= 4; count++ {
		for _, l := range orders(head[:count]) {
			checkReq(t, append(l, impl.Field{Name: "upload-offset", Value: "7"}), impl.Req{Op: impl.OpSend, Id: "x9", N: 7})
			checkNoReq(t, l, impl.ReqNumber)
		}
	}
	// Of fields that do not begin with a colon, the order means nothing, either.
	for _, l := range orders(fieldsBy("upload-offset", "7", "z", "1", "a", "2", "upload-sum", "x")) {
		checkReq(t, slices.Concat(head, l), impl.Req{Op: impl.OpSend, Id: "x9", N: 7})
	}
}

// goodLists are lists that are read, each with its request.
func goodLists() map[*impl.Req][]impl.Field {
	return map[*impl.Req][]impl.Field{
		{Op: impl.OpMake, Id: "up1", N: 60}:      askedBy("POST", "/up/up1", "upload-length", "60"),
		{Op: impl.OpAsk, Id: "a"}:                askedBy("HEAD", "/up/a"),
		{Op: impl.OpSend, Id: "abcdefgh", N: 24}: askedBy("PATCH", "/up/abcdefgh", ":authority", "here", "upload-offset", "24"),
		{Op: impl.OpDone, Id: "0", N: topWord}:   askedBy("PUT", "/up/0", "upload-sum", "4294967295", "x", "y"),
		{Op: impl.OpRead, Id: "z"}:               askedBy("GET", "/up/z", ":authority", "", "x", "y", "x", "y"),
		{Op: impl.OpDrop, Id: "9"}:               askedBy("DELETE", "/up/9", "upload-offset", "24"),
	}
}

func headLen(l []impl.Field) int {
	return len(l) - len(slices.DeleteFunc(slices.Clone(l), func(f impl.Field) bool { return strings.HasPrefix(f.Name, ":") }))
}

func TestReqOfNames(t *testing.T) {
	for r, l := range goodLists() {
		// A wrong name is a fault behind all others, and between those that do not begin with a colon.
		for at := headLen(l); at <= len(l); at++ {
			for _, name := range []string{"", "A", "Z", "M", "Xa", "aX", "aXb", "abcZ", "X-Y", "a-Z", "upload-Length", "Upload-length", "upload-lengtH", "uploaD-offset", "UPLOAD-SUM", "\xffA", "A\xff", strings.Repeat("a", 5000) + "A"} {
				checkNoReq(t, slices.Insert(slices.Clone(l), at, impl.Field{Name: name, Value: "1"}), impl.ReqForm)
			}
			for _, name := range []string{"a", "z", "@", "[", "`", "{", "-", "0", " ", "\x00", "\xff", "é", "ÀÉ", "x:y", "x:", " :method", "method", "path", "upload", "upload-lengt", "upload-length ", "upload-lengths", strings.Repeat("a", 5000)} {
				checkReq(t, slices.Insert(slices.Clone(l), at, impl.Field{Name: name, Value: "ABC"}), *r)
			}
		}
		// Each byte in the name of a field that is passed over.
		for i := range 256 {
			c := string([]byte{byte(i)})
			for _, name := range []string{c, c + "x", "x" + c, "x" + c + "x"} {
				more := append(slices.Clone(l), impl.Field{Name: name})
				if i >= 'A' && i <= 'Z' || name[0] == ':' {
					checkNoReq(t, more, impl.ReqForm)
				} else {
					checkReq(t, more, *r)
				}
			}
		}
	}
}

func TestReqOfNamesWithAColon(t *testing.T) {
	for r, l := range goodLists() {
		head := headLen(l)
		for at := range len(l) + 1 {
			for _, name := range []string{":", "::", ":a", ":status", ":methods", ":metho", ":method ", ":Method", ":METHOD", ":path:", ":protocol", "::method", ":upload-length", ":authorit", ":\xff"} {
				checkNoReq(t, slices.Insert(slices.Clone(l), at, impl.Field{Name: name, Value: "x"}), impl.ReqForm)
			}
			for _, name := range []string{":method", ":scheme", ":path", ":authority"} {
				first := slices.IndexFunc(l, func(f impl.Field) bool { return f.Name == name })
				twice := impl.Field{Name: name, Value: "here"}
				if first >= 0 {
					// There twice, with the same value and with another one, is the same fault.
					checkNoReq(t, slices.Insert(slices.Clone(l), at, l[first]), impl.ReqForm)
					checkNoReq(t, slices.Insert(slices.Clone(l), at, twice), impl.ReqForm)
				} else if at > head {
					checkNoReq(t, slices.Insert(slices.Clone(l), at, twice), impl.ReqForm)
				} else {
					checkReq(t, slices.Insert(slices.Clone(l), at, twice), *r)
				}
			}
		}
		// One that does not begin with a colon, ahead of one that does.
		for at := range head {
			for _, name := range []string{"x", "upload-length", "upload-sum", "x:", "\xff"} {
				checkNoReq(t, slices.Insert(slices.Clone(l), at, impl.Field{Name: name, Value: "1"}), impl.ReqForm)
			}
		}
		for at, f := range l[:head] {
			less := slices.Delete(slices.Clone(l), at, at+1)
			if f.Name == ":authority" {
				checkReq(t, less, *r)
				continue
			}
			checkNoReq(t, less, impl.ReqForm)
			checkNoReq(t, append(less, f, impl.Field{Name: "x"}, f), impl.ReqForm)
		}
	}
	for _, name := range []string{":method", ":scheme", ":path", ":authority"} {
		checkNoReq(t, fieldsBy(name, "GET"), impl.ReqForm)
		checkNoReq(t, fieldsBy(name, "GET", name, "GET", name, "GET"), impl.ReqForm)
	}
	checkNoReq(t, fieldsBy(":authority", "a", ":authority", "b", ":method", "GET", ":scheme", "https", ":path", "/up/a"), impl.ReqForm)
}

func TestReqOfMethods(t *testing.T) {
	for _, method := range []string{
		"", "post", "head", "patch", "put", "get", "delete", "Post", "Get", "GEt", "OPTIONS", "CONNECT", "TRACE", "POS", "POSTS", "POST ", " POST", "GET\x00", "PUT,GET", "PATC", "DELET", "HEADGET", "1", "\xff", "https", "/up/a", strings.Repeat("GET", 1000),
	} {
		checkNoReq(t, askedBy(method, "/up/a"), impl.ReqMethod)
		checkNoReq(t, askedBy(method, "/up/a", "upload-length", "1", "upload-offset", "1", "upload-sum", "1"), impl.ReqMethod)
	}
}

func TestReqOfPaths(t *testing.T) {
	for _, x := range docOps {
		for _, path := range []string{
			"", "/", "/u", "/up", "up/a", "a", "/up/", "//up/a", "/up//a", "/up/a/", "/up/a/b", "/up/a?b", "/up/a#", "/up/a ", " /up/a", "/up/ a", "/Up/a", "/UP/a", "/up\\a", "/upa", "/up:a", "/updown/a",
			"/up/abcdefghi", "/up/A", "/up/aB", "/up/a-b", "/up/a_b", "/up/.", "/up/..", "/up/\x00", "/up/a\x00", "/up/\xff", "/up/é", "/up//up/a", "/up/up/a", "https://here/up/a", "*", "/up/%61", "/up/a\n", "/up/" + strings.Repeat("a", 256), "/up/" + strings.Repeat("a", 10000),
		} {
			checkNoReq(t, askedBy(x.method, path), impl.ReqPath)
			checkNoReq(t, askedBy(x.method, path, "upload-length", "1", "upload-offset", "1", "upload-sum", "1"), impl.ReqPath)
		}
		for _, id := range []string{"a", "z", "0", "9", "up", "up1", "abcdefgh", "12345678"} {
			checkReq(t, askedBy(x.method, "/up/"+id, "upload-length", "1", "upload-offset", "1", "upload-sum", "1"), impl.Req{Op: x.op, Id: id, N: min(1, x.top)})
		}
	}
}

// noNumbers are no numbers at all.
var noNumbers = []string{
	"", "00", "01", "007", "0000000001", "0" + strings.Repeat("0", 40) + "1", strings.Repeat("0", 5000),
	"-0", "+0", "-1", "+1", "--1", "-", "+", "-4294967295", " ", " 1", "1 ", "1 2", "\t1", "1\n", "\n", "\x00", "1\x00",
	"a", "1a", "a1", "x", "1.0", "1e3", "1_000", "1,000", "0x1", "0b1", "0o7", "ff", "\xff", "1\xff", "٣", "１", "NaN", "Inf",
}

func TestReqOfNumbers(t *testing.T) {
	for _, x := range docOps {
		if x.number == "" {
			continue
		}
		checkNoReq(t, askedBy(x.method, "/up/a"), impl.ReqNumber)
		for _, n := range []int{0, 1, 9, 10, 24, 100, 999999999, topNumber, topNumber + 1, 1<<31 - 1, 1 << 31, topWord - 1, topWord, topWord + 1, 9999999999, 1 << 32, 1<<32 + 1, 1 << 62, math.MaxInt} {
			l := askedBy(x.method, "/up/a", x.number, strconv.Itoa(n))
			if n <= x.top {
				checkReq(t, l, impl.Req{Op: x.op, Id: "a", N: n})
			} else {
				checkNoReq(t, l, impl.ReqNumber)
			}
		}
		for _, s := range slices.Concat(noNumbers, []string{"9223372036854775808", "18446744073709551615", "18446744073709551616", "18446744073709551617", "36893488147419103233", strings.Repeat("1", 100), strings.Repeat("9", 5000), "1" + strings.Repeat("0", 5000)}) {
			checkNoReq(t, askedBy(x.method, "/up/a", x.number, s), impl.ReqNumber)
		}
		// There twice, with whatever values and wherever they stand.
		for _, pair := range [][2]string{{"5", "5"}, {"5", "6"}, {"5", ""}, {"", "5"}, {"x", "5"}, {"0", "0"}} {
			checkNoReq(t, askedBy(x.method, "/up/a", x.number, pair[0], x.number, pair[1]), impl.ReqNumber)
			checkNoReq(t, askedBy(x.method, "/up/a", x.number, pair[0], "y", "1", x.number, pair[1], "z", "2"), impl.ReqNumber)
			checkNoReq(t, askedBy(x.method, "/up/a", x.number, pair[0], x.number, pair[1], x.number, "5"), impl.ReqNumber)
		}
	}
}

// Each byte, within a number and next to it.
func TestReqOfEachByteOfANumber(t *testing.T) {
	for i := range 256 {
		c := string([]byte{byte(i)})
		for _, s := range []string{c, "4" + c, c + "2", "4" + c + "2"} {
			l := askedBy("PUT", "/up/a", "upload-sum", s)
			if i < '0' || i > '9' || len(s) > 1 && s[0] == '0' {
				checkNoReq(t, l, impl.ReqNumber)
				continue
			}
			n, _ := strconv.Atoi(s)
			checkReq(t, l, impl.Req{Op: impl.OpDone, Id: "a", N: n})
		}
	}
}

// The number of another Op is passed over, right or wrong, once and twice; it does not stand for the one that is needed, either.
func TestReqOfNumbersOfOtherOps(t *testing.T) {
	for _, x := range docOps {
		for _, name := range []string{"upload-length", "upload-offset", "upload-sum", "other", "content-length"} {
			if name == x.number {
				continue
			}
			for _, value := range []string{"5", "", "05", "x", "99999999999", "-1"} {
				pairs := []string{name, value}
				twice := []string{name, value, name, "7", name, value}
				if x.number == "" {
					checkReq(t, askedBy(x.method, "/up/a", pairs...), impl.Req{Op: x.op, Id: "a"})
					checkReq(t, askedBy(x.method, "/up/a", twice...), impl.Req{Op: x.op, Id: "a"})
					continue
				}
				checkNoReq(t, askedBy(x.method, "/up/a", pairs...), impl.ReqNumber)
				checkReq(t, askedBy(x.method, "/up/a", append(pairs, x.number, "6")...), impl.Req{Op: x.op, Id: "a", N: 6})
				checkReq(t, askedBy(x.method, "/up/a", append([]string{x.number, "6"}, twice...)...), impl.Req{Op: x.op, Id: "a", N: 6})
			}
		}
	}
}

// Of several faults the one that is named first counts.
func TestReqOfFirstFaultCounts(t *testing.T) {
	forms := [][]impl.Field{fieldsBy("", ""), fieldsBy("X", ""), fieldsBy(":path", "/up/a"), fieldsBy(":other", ""), fieldsBy("x", "", ":authority", "")}
	for mask := range 16 {
		method, path, number, want := "PATCH", "/up/a", "5", impl.ReqGood
		if mask&1 != 0 {
			number, want = "05", impl.ReqNumber
		}
		if mask&2 != 0 {
			path, want = "/up/A", impl.ReqPath
		}
		if mask&4 != 0 {
			method, want = "patch", impl.ReqMethod
		}
		l := askedBy(method, path, "upload-offset", number)
		switch {
		case mask&8 != 0:
			for _, more := range forms {
				checkNoReq(t, slices.Concat(l, more), impl.ReqForm)
			}
			for at := range 3 {
				checkNoReq(t, slices.Delete(slices.Clone(l), at, at+1), impl.ReqForm)
			}
		case want == impl.ReqGood:
			checkReq(t, l, impl.Req{Op: impl.OpSend, Id: "a", N: 5})
		default:
			checkNoReq(t, l, want)
			if mask&1 != 0 {
				checkNoReq(t, l[:3], want)
				checkNoReq(t, append(slices.Clone(l), l[3]), want)
			}
		}
	}
}

var (
	pathForm   = regexp.MustCompile(`\A/up/([a-z0-9]{1,8})\z`)
	numberForm = regexp.MustCompile(`\A(0|[1-9][0-9]*)\z`)
	wrongName  = regexp.MustCompile(`\A\z|[A-Z]`)
)

// docForm tells whether the names are those of a request, in the document's order of what is wrong.
func docForm(l []impl.Field) bool {
	values := map[string][]string{}
	plain := false
	for _, f := range l {
		colon := strings.HasPrefix(f.Name, ":")
		if wrongName.MatchString(f.Name) || colon && plain {
			return false
		}
		if colon && (len(values[f.Name]) > 0 || !slices.Contains([]string{":method", ":scheme", ":path", ":authority"}, f.Name)) {
			return false
		}
		plain = plain || !colon
		values[f.Name] = append(values[f.Name], f.Value)
	}
	return len(values[":method"]) == 1 && len(values[":scheme"]) == 1 && len(values[":path"]) == 1
}

// docReq is what the document says ReqOf answers.
func docReq(l []impl.Field) (impl.Req, int) {
	if !docForm(l) {
		return impl.Req{}, impl.ReqForm
	}
	values := map[string][]string{}
	for _, f := range l {
		values[f.Name] = append(values[f.Name], f.Value)
	}
	for _, x := range docOps {
		if x.method != values[":method"][0] {
			continue
		}
		path := pathForm.FindStringSubmatch(values[":path"][0])
		if path == nil {
			return impl.Req{}, impl.ReqPath
		}
		r := impl.Req{Op: x.op, Id: path[1]}
		if x.number == "" {
			return r, impl.ReqGood
		}
		told := values[x.number]
		if len(told) != 1 || !numberForm.MatchString(told[0]) {
			return impl.Req{}, impl.ReqNumber
		}
		n, _ := new(big.Int).SetString(told[0], 10)
		if n.Cmp(big.NewInt(int64(x.top))) > 0 {
			return impl.Req{}, impl.ReqNumber
		}
		r.N = int(n.Int64())
		return r, impl.ReqGood
	}
	return impl.Req{}, impl.ReqMethod
}

func drawn[T any](d *drawer, l ...T) T {
	return l[d.draw(len(l))]
}

func (d *drawer) id() string {
	id := ""
	for range 1 + d.draw(8) {
		id += string("abcdefghijklmnopqrstuvwxyz0123456789"[d.draw(36)])
	}
	return id
}

// req draws a request that is right.
func (d *drawer) req() impl.Req {
	x := docOps[d.draw(len(docOps))]
	n := min(x.top, drawn(d, 0, 1, d.draw(1000), d.word()&topWord, topNumber, x.top))
	return impl.Req{Op: x.op, Id: d.id(), N: n}
}

// otherField draws one that is passed over whatever the request's Op is, but for the field of its own number.
func (d *drawer) otherField(op int) impl.Field {
	name := drawn(d, "x", "cookie", "upload-length", "upload-offset", "upload-sum", "content-length", "accept", "\xff", "x:y", "method", "upload")
	if op > 0 && name == docOps[op-1].number {
		name += "s"
	}
	return impl.Field{Name: name, Value: drawn(d, "", "5", "05", "X", "/up/a", "GET", "-1", "99999999999")}
}

// aboutReq draws fields that are nearly those of a request.
func (d *drawer) aboutReq() []impl.Field {
	r := d.req()
	l := impl.FieldsOf(r)
	for range d.draw(3) {
		l = append(l, d.otherField(0))
	}
	for range d.draw(3) {
		at := d.draw(len(l) + 1)
		switch d.draw(7) {
		case 0:
			l = slices.Insert(l, at, d.otherField(0))
		case 1:
			l = slices.Insert(l, min(at, 3), impl.Field{Name: ":authority", Value: "here"})
		case 2:
			l = slices.Insert(l, at, impl.Field{Name: drawn(d, ":", ":other", "X", "", "aB", ":method", ":scheme", ":path", ":authority"), Value: drawn(d, "GET", "/up/a")})
		case 3:
			l = slices.Delete(l, min(at, len(l)-1), min(at, len(l)-1)+1)
		case 4:
			l = append(l, l[min(at, len(l)-1)])
		case 5:
			l[min(at, len(l)-1)].Value = drawn(d, "GET", "PUT", "post", "/up/a", "/up/", "/up/A", "/up/abcdefghi", "0", "00", "5", "-5", "1000000001", "4294967296", "")
		case 6:
			other := d.draw(len(l))
			at = min(at, len(l)-1)
			l[at], l[other] = l[other], l[at]
		}
		if len(l) == 0 {
			break
		}
	}
	return l
}

// Drawn fields are read as told; what is read is right, and beside a fault it is the zero one.
func TestDrawnFieldsAreReadAsTold(t *testing.T) {
	d := drawer(1111)
	met := map[int]int{}
	for round := range 40000 {
		l := d.aboutReq()
		want, wantCode := docReq(l)
		r, code := impl.ReqOf(l)
		if r != want || code != wantCode {
			t.Fatalf("round %d: ReqOf(%q) = %+v, %d, not %+v, %d", round, l, r, code, want, wantCode)
		}
		met[code]++
		if code == impl.ReqGood {
			// It comes back of its own fields, too, which are among those that were read.
			checkReqOk(t, r, true)
			for _, f := range impl.FieldsOf(r) {
				if f.Name != ":scheme" && !slices.Contains(l, f) {
					t.Fatalf("round %d: %q is not in %q", round, f, l)
				}
			}
		} else if r != (impl.Req{}) || impl.ReqOk(r) {
			t.Fatalf("round %d: %+v beside %d", round, r, code)
		}
	}
	for code := impl.ReqGood; code <= impl.ReqNumber; code++ {
		if met[code] < 500 {
			t.Errorf("the code %d came only %d times", code, met[code])
		}
	}
}

// Promise 11: requests come back of their fields, with other fields behind them, too.
func TestRequestsComeBackOfTheirFields(t *testing.T) {
	d := drawer(11)
	for range 5000 {
		r := d.req()
		if !impl.ReqOk(r) {
			t.Fatalf("ReqOk(%+v) is false", r)
		}
		l := impl.FieldsOf(r)
		checkReq(t, l, r)
		for range d.draw(6) {
			l = append(l, d.otherField(r.Op))
		}
		checkReq(t, l, r)
		checkReq(t, slices.Insert(l, d.draw(4), impl.Field{Name: ":authority", Value: d.id()}), r)
	}
	for _, x := range docOps {
		for n := 0; n <= x.top; n += 1 + n/3 {
			checkReqOk(t, impl.Req{Op: x.op, Id: "abc", N: n}, true)
			checkReqOk(t, impl.Req{Op: x.op, Id: "abc", N: x.top - n}, true)
		}
	}
}

// Requests and answers come back of the blocks of their fields.
func TestRequestsComeBackOfBlocks(t *testing.T) {
	d := drawer(511)
	writes, reads := impl.Table{Max: 4096}, impl.Table{Max: 4096}
	for range 500 {
		r, a := d.req(), d.resp()
		for _, l := range [][]impl.Field{impl.FieldsOf(r), impl.RespFields(a)} {
			var b []byte
			b, writes = impl.PutFields(writes, l)
			back, table, code := impl.GetFields(reads, 4096, b)
			if code != impl.BlockGood || !slices.Equal(back, l) {
				t.Fatalf("%q comes back as %q, %d", l, back, code)
			}
			reads = table
			if len(l) > 0 && l[0].Name == ":status" {
				checkResp(t, back, a)
			} else {
				checkReq(t, back, r)
			}
		}
	}
}

func checkResp(t *testing.T, l []impl.Field, want impl.Resp) {
	t.Helper()
	if r, ok := impl.RespOf(l); !ok || r != want {
		t.Errorf("RespOf(%.300q) = %+v, %v, not %+v", l, r, ok, want)
	}
}

func checkNoResp(t *testing.T, l []impl.Field) {
	t.Helper()
	if r, ok := impl.RespOf(l); ok || r != (impl.Resp{}) {
		t.Errorf("RespOf(%.300q) = %+v, %v, not the zero one, false", l, r, ok)
	}
}

// respFieldsBy is the fields of an answer in the document's words.
func respFieldsBy(r impl.Resp) []impl.Field {
	l := fieldsBy(":status", fmt.Sprint(r.Status))
	if r.Off != -1 {
		l = append(l, impl.Field{Name: "upload-offset", Value: fmt.Sprint(r.Off)})
	}
	return l
}

// checkRespOk asks for the fields as well, and the way back.
func checkRespOk(t *testing.T, r impl.Resp, want bool) {
	t.Helper()
	if got := impl.RespOk(r); got != want {
		t.Errorf("RespOk(%+v) = %v", r, got)
	}
	l := impl.RespFields(r)
	if !want {
		if len(l) != 0 {
			t.Errorf("RespFields(%+v) = %q", r, l)
		}
		checkNoResp(t, respFieldsBy(r))
		return
	}
	if !slices.Equal(l, respFieldsBy(r)) {
		t.Errorf("RespFields(%+v) = %q", r, l)
	}
	checkResp(t, l, r)
}

// Promise 11: answers come back of their fields.
func TestAnswersComeBackOfTheirFields(t *testing.T) {
	for status := -50; status <= 1100; status++ {
		for _, off := range []int{-2, -1, 0, 1, 24, 60, status, topNumber - 1, topNumber, topNumber + 1} {
			checkRespOk(t, impl.Resp{Status: status, Off: off}, status >= 100 && status <= 599 && off >= -1 && off <= topNumber)
		}
	}
	for _, n := range greatNumbers {
		checkRespOk(t, impl.Resp{Status: n}, false)
		checkRespOk(t, impl.Resp{Status: n, Off: -1}, false)
		checkRespOk(t, impl.Resp{Status: 200, Off: n}, false)
		checkRespOk(t, impl.Resp{Status: n, Off: n}, false)
	}
	for _, n := range []int{1<<8 + 200<<8, 1<<16 + 200, 1<<32 + 200, -1<<32 + 200, 1<<48 + 599} {
		checkRespOk(t, impl.Resp{Status: n, Off: 5}, false)
		checkRespOk(t, impl.Resp{Status: 200, Off: 1<<32 + n%1000}, false)
	}
	checkRespOk(t, impl.Resp{}, false)
	for n := 0; n <= topNumber; n += 1 + n/50 {
		checkRespOk(t, impl.Resp{Status: 204, Off: n}, true)
	}
}

func (d *drawer) resp() impl.Resp {
	return impl.Resp{Status: 100 + d.draw(500), Off: drawn(d, -1, 0, d.draw(500), d.word()%(topNumber+1), topNumber)}
}

func TestRespOfStatus(t *testing.T) {
	for _, s := range slices.Concat(noNumbers, []string{
		"0", "1", "20", "99", "600", "601", "999", "1000", "2000", "0200", "00200", "099", "0100", "+200", "-200", "200 ", " 200", "200.0", "2OO", "2e2", "0xc8",
		strconv.Itoa(1<<32 + 200), "18446744073709551816", strings.Repeat("2", 5000), "https", ":status",
	}) {
		checkNoResp(t, fieldsBy(":status", s))
		checkNoResp(t, fieldsBy(":status", s, "upload-offset", "7"))
		checkNoResp(t, fieldsBy(":status", s, "upload-offset", s))
	}
}

func TestRespOfOffsets(t *testing.T) {
	checkResp(t, fieldsBy(":status", "404"), impl.Resp{Status: 404, Off: -1})
	checkResp(t, fieldsBy(":status", "200", "upload-offset", "0"), impl.Resp{Status: 200})
	checkResp(t, fieldsBy(":status", "200", "upload-offset", "1000000000"), impl.Resp{Status: 200, Off: topNumber})
	for _, s := range slices.Concat(noNumbers, []string{"1000000001", "4294967295", "4294967296", "9223372036854775807", "9223372036854775808", "18446744073709551616", strings.Repeat("9", 5000)}) {
		checkNoResp(t, fieldsBy(":status", "200", "upload-offset", s))
	}
}

// Only the very fields of an answer are read: no others with them, no other order, no other names.
func TestRespOfOtherFields(t *testing.T) {
	checkNoResp(t, nil)
	checkNoResp(t, []impl.Field{})
	checkNoResp(t, []impl.Field{{}})
	checkNoResp(t, []impl.Field{{}, {}})
	good := fieldsBy(":status", "200", "upload-offset", "7")
	checkResp(t, good, impl.Resp{Status: 200, Off: 7})
	checkNoResp(t, fieldsBy("upload-offset", "7", ":status", "200"))
	checkNoResp(t, fieldsBy("upload-offset", "200", ":status", "200"))
	checkNoResp(t, fieldsBy("upload-offset", "7"))
	checkNoResp(t, fieldsBy("upload-offset", "200"))
	for at := range 3 {
		for _, more := range slices.Concat(good, fieldsBy("x", "7", "", "", ":status", "7", "upload-offset", "200", "upload-offset", "8", "upload-length", "7", ":authority", "here")) {
			checkNoResp(t, slices.Insert(slices.Clone(good), at, more))
		}
	}
	for _, more := range fieldsBy(":status", "200", ":status", "7", "x", "7", "", "", "", "7", "upload-length", "7", "upload-sum", "7", "Upload-offset", "7", "upload-offset ", "7", "upload-offse", "7", "upload-offsets", "7", ":upload-offset", "7") {
		checkNoResp(t, []impl.Field{good[0], more})
		checkNoResp(t, []impl.Field{more, good[0]})
	}
	for _, name := range []string{"", "status", ":", ":Status", ":STATUS", ":status ", ":statu", ":statuss", ":method", "upload-offset"} {
		checkNoResp(t, fieldsBy(name, "200"))
		checkNoResp(t, fieldsBy(name, "200", "upload-offset", "7"))
	}
	for r, l := range goodLists() {
		checkNoResp(t, l)
		checkNoReq(t, respFieldsBy(impl.Resp{Status: 200, Off: r.Op}), impl.ReqForm)
	}
}

// Reading fields writes nothing, and what lies behind them tells nothing.
func TestReadingFieldsLeavesThemAlone(t *testing.T) {
	d := drawer(4711)
	for range 3000 {
		l := d.aboutReq()
		if d.draw(3) == 0 {
			l = respFieldsBy(d.resp())
		}
		wantReq, wantCode := impl.ReqOf(slices.Clip(slices.Clone(l)))
		wantResp, wantOk := impl.RespOf(slices.Clip(slices.Clone(l)))
		for _, behind := range [][]impl.Field{nil, {spareField}, slices.Repeat([]impl.Field{spareField}, 20), fieldsBy(":method", "GET", "upload-length", "5", "upload-offset", "5", "upload-sum", "5", "X", "", ":status", "200")} {
			all := slices.Concat(l, behind)
			before := slices.Clone(all)
			r, code := impl.ReqOf(all[:len(l)])
			a, ok := impl.RespOf(all[:len(l)])
			if r != wantReq || code != wantCode || a != wantResp || ok != wantOk {
				t.Fatalf("%q with %q behind: %+v, %d, %+v, %v", l, behind, r, code, a, ok)
			}
			if !slices.Equal(all, before) {
				t.Fatalf("%q is written into: %q", before, all)
			}
		}
	}
	// A field that is cut off the list, but still lies behind it, is not there.
	whole := askedBy("PATCH", "/up/a", "upload-offset", "5", "upload-offset", "5")
	checkNoReq(t, whole[:2], impl.ReqForm)
	checkNoReq(t, whole[:3], impl.ReqNumber)
	checkReq(t, whole[:4], impl.Req{Op: impl.OpSend, Id: "a", N: 5})
	checkNoReq(t, whole, impl.ReqNumber)
	told := respFieldsBy(impl.Resp{Status: 200, Off: 5})
	checkResp(t, told[:1], impl.Resp{Status: 200, Off: -1})
	checkNoResp(t, told[:0])
}

// A request that was read stays as it is when the fields that it was read of are written into.
func TestRequestsShareNothingWithTheirFields(t *testing.T) {
	for want, l := range goodLists() {
		arg, all := roomyFields(l, 5)
		r, code := impl.ReqOf(arg)
		turnFields(all)
		if r != *want || code != impl.ReqGood {
			t.Errorf("%+v, %d, not %+v", r, code, *want)
		}
	}
	arg, all := roomyFields(respFieldsBy(impl.Resp{Status: 200, Off: 5}), 5)
	a, ok := impl.RespOf(arg)
	turnFields(all)
	if a != (impl.Resp{Status: 200, Off: 5}) || !ok {
		t.Errorf("%+v, %v", a, ok)
	}
}

// The fields of two calls are apart, those of their spare room, too.
func TestFieldsOfCallsAreApart(t *testing.T) {
	d := drawer(99)
	for range 500 {
		r, a := d.req(), d.resp()
		if d.draw(5) == 0 {
			r.Op, a.Status = 7, 600
		}
		for _, call := range []func() []impl.Field{func() []impl.Field { return impl.FieldsOf(r) }, func() []impl.Field { return impl.RespFields(a) }} {
			one := call()
			before := slices.Clone(one)
			two := call()
			turnFields(two)
			_ = append(two, spareField)
			if three := call(); !slices.Equal(one, before) || !slices.Equal(three, before) {
				t.Fatalf("%q and %q, not %q", one, three, before)
			}
		}
	}
}

// No call keeps anything: what is refused leaves nothing behind.
func TestRequestsAnswerAlikeAgain(t *testing.T) {
	l := askedBy("PATCH", "/up/a", "upload-offset", "5")
	for range 3 {
		checkNoReq(t, append(slices.Clone(l), l[3]), impl.ReqNumber)
		checkReq(t, l, impl.Req{Op: impl.OpSend, Id: "a", N: 5})
		checkNoReq(t, append(slices.Clone(l), l[0]), impl.ReqForm)
		checkNoReq(t, l[:3], impl.ReqNumber)
		checkReq(t, askedBy("GET", "/up/a"), impl.Req{Op: impl.OpRead, Id: "a"})
		checkNoResp(t, fieldsBy(":status", "99", "upload-offset", "5"))
		checkResp(t, fieldsBy(":status", "100"), impl.Resp{Status: 100, Off: -1})
	}
}
