package tests

import (
	"bytes"
	"fmt"
	"maps"
	"slices"
	"strings"
	"testing"

	"loop.example/g00199/impl"
)

const (
	docPreface = "PRI * HTTP/2.0\x0d\x0a\x0d\x0aSM\x0d\x0a\x0d\x0a"
	// What is answered to settings.
	settingsAck = "\x00\x00\x00\x04\x01\x00\x00\x00\x00"
	topStrs     = 100
	topStrBody  = 2000
)

// Blocks of fields that add nothing to a table: requests, and what is none, by each code.
const (
	askBlock    = "\x02\x04HEAD\x87\x04\x05/up/a"
	sendBlock   = "\x02\x05PATCH\x87\x04\x05/up/a\x00\x0dupload-offset\x013"
	formBlock   = "\x82\x84"
	methodBlock = "\x02\x04HEAX\x87\x04\x05/up/a"
	pathBlock   = "\x02\x04HEAD\x87\x84"
	numberBlock = "\x02\x05PATCH\x87\x04\x05/up/a\x00\x0dupload-offset\x02x3"
	wrongBlock  = "\x80"
)

func sameStr(a impl.Str, b impl.Str) bool {
	return a.Id == b.Id && a.State == b.State && a.R == b.R && bytes.Equal(a.Body, b.Body)
}

func sameConn(a impl.Conn, b impl.Conn) bool {
	return a.Pre == b.Pre && bytes.Equal(a.In, b.In) && sameGather(a.G, b.G) && sameTable(a.Dec, b.Dec) && sameTable(a.Enc, b.Enc) &&
		slices.EqualFunc(a.Strs, b.Strs, sameStr) && a.Last == b.Last && a.Dead == b.Dead
}

func sameCall(a impl.Call, b impl.Call) bool {
	return a.Stream == b.Stream && a.R == b.R && bytes.Equal(a.Body, b.Body) && a.Code == b.Code
}

func connTitle(c impl.Conn) string {
	s := fmt.Sprintf("pre %d, in %d %.12x, g (%s), dec %d %.60q, enc %d %.60q, last %d, dead %d, %d streams:", c.Pre, len(c.In), c.In, gatherTitle(c.G), c.Dec.Max, c.Dec.Fields, c.Enc.Max, c.Enc.Fields, c.Last, c.Dead, len(c.Strs))
	for _, x := range c.Strs {
		s += fmt.Sprintf(" %d:%d:%v:%d:%.10q", x.Id, x.State, x.R, len(x.Body), x.Body)
	}
	return fmt.Sprintf("%.700s", s)
}

func callsTitle(l []impl.Call) string {
	s := fmt.Sprint(len(l), " calls:")
	for _, x := range l {
		s += fmt.Sprintf(" %d:%v:%d:%.10q:%d", x.Stream, x.R, len(x.Body), x.Body, x.Code)
	}
	return fmt.Sprintf("%.500s", s)
}

// connOf is a connection behind its preface, with tables that are empty.
func connOf(last int, strs ...impl.Str) impl.Conn {
	return impl.Conn{Pre: 24, Dec: impl.Table{Max: 4096}, Enc: impl.Table{Max: 4096}, Strs: strs, Last: last}
}

func openStr(id int, body string) impl.Str {
	return impl.Str{Id: id, State: impl.StOpen, R: sendReq("a", 3), Body: []byte(body)}
}

func endedStr(id int, body string) impl.Str {
	return impl.Str{Id: id, State: impl.StHalfThere, R: sendReq("b", 7), Body: []byte(body)}
}

// manyStrs are so many streams, each third one ended.
func manyStrs(count int) []impl.Str {
	var l []impl.Str
	for i := range count {
		s := openStr(2*i+1, "xy")
		if i%3 == 2 {
			s = endedStr(2*i+1, "ab")
		}
		l = append(l, s)
	}
	return l
}

// busyConn has an open stream, 1, and an ended one, 5; 3, 7 and 9 are gone.
func busyConn() impl.Conn {
	return connOf(9, openStr(1, "xy"), endedStr(5, "ab"))
}

func dataFrame(stream int, flags int, body string) impl.Frame {
	return impl.Frame{Kind: impl.FrData, Flags: flags, Stream: stream, Body: []byte(body)}
}

// wholeHead is a block in one frame.
func wholeHead(stream int, end bool, block string) impl.Frame {
	f := headFrame(stream, impl.FlagHead, block)
	if end {
		f.Flags += impl.FlagEnd
	}
	return f
}

func pingFrame(flags int) impl.Frame {
	return impl.Frame{Kind: impl.FrPing, Flags: flags, Body: []byte("pingpong")}
}

// pingAck is what is answered to it.
var pingAck = headBytes(8, impl.FrPing, 1, 0) + "pingpong"

// wire is what frames are sent as.
func wire(l ...impl.Frame) string {
	s := ""
	for _, f := range l {
		s += frameBytes(f)
	}
	return s
}

// goAway is what is answered to an end.
func goAway(last int, code int) string {
	return headBytes(8, impl.FrGoAway, 0, 0) + string([]byte{byte(last >> 24), byte(last >> 16), byte(last >> 8), byte(last), 0, 0, 0, byte(code)})
}

// ended is a connection that ended with this code.
func ended(c impl.Conn, code int) impl.Conn {
	return impl.Conn{Pre: c.Pre, Dec: c.Dec, Enc: c.Enc, Last: c.Last, Dead: code}
}

// An outcome is what HearBytes answers.
type outcome struct {
	conn  impl.Conn
	calls []impl.Call
	out   string
}

func (o outcome) same(p outcome) bool {
	return sameConn(o.conn, p.conn) && slices.EqualFunc(o.calls, p.calls, sameCall) && o.out == p.out
}

func (o outcome) String() string {
	return fmt.Sprintf("(%s), %s, answered %.60x", connTitle(o.conn), callsTitle(o.calls), o.out)
}

func docConnOk(c impl.Conn) bool {
	below := 0
	for _, s := range c.Strs {
		if s.Id <= below || s.Id%2 == 0 || s.Id > c.Last || s.State != 1 && s.State != 2 || len(s.Body) > topStrBody {
			return false
		}
		below = s.Id
	}
	if len(c.In) >= 9 {
		length := int(c.In[0])<<16 + int(c.In[1])<<8 + int(c.In[2])
		if length > 1000 || len(c.In) >= 9+length {
			return false
		}
	}
	if c.Pre < 0 || c.Pre > 24 || c.Pre < 24 && len(c.In) > 0 || c.Last < 0 || c.Last > topStream || c.Dead < 0 || c.Dead > 20 {
		return false
	}
	quiet := len(c.In) == 0 && len(c.Strs) == 0
	return impl.GatherOk(c.G) && impl.TableOk(c.Dec) && impl.TableOk(c.Enc) && len(c.Strs) <= topStrs && len(c.In) <= 1100 && (c.Dead == 0 || quiet)
}

// A docConn hears byte by byte, by the chapter's words; strs are its streams.
type docConn struct {
	outcome
	strs map[int]impl.Str
}

func docHear(c impl.Conn, b string) outcome {
	d := docConn{outcome{conn: c}, map[int]impl.Str{}}
	if !docConnOk(c) || c.Dead != 0 {
		return d.outcome
	}
	d.conn.In = slices.Clone(c.In)
	for _, s := range c.Strs {
		d.strs[s.Id] = s
	}
	for i := range len(b) {
		if code := d.hears(b[i]); code != 0 {
			d.out += goAway(d.conn.Last, code)
			d.conn, d.strs = ended(d.conn, code), nil
			break
		}
	}
	d.conn.Strs = nil
	for _, id := range slices.Sorted(maps.Keys(d.strs)) {
		d.conn.Strs = append(d.conn.Strs, d.strs[id])
	}
	return d.outcome
}

// hears one byte, and tells the code of the end, 0 where there is none.
func (d *docConn) hears(x byte) int {
	c := &d.conn
	if c.Pre < 24 {
		if x != docPreface[c.Pre] {
			return 1
		}
		c.Pre++
		return 0
	}
	c.In = append(c.In, x)
	if len(c.In) < 9 {
		return 0
	}
	in := c.In
	length := int(in[0])<<16 + int(in[1])<<8 + int(in[2])
	if length > 1000 {
		return 6
	}
	if len(in) < 9+length {
		return 0
	}
	c.In = nil
	return d.takes(impl.Frame{Kind: int(in[3]), Flags: int(in[4]), Stream: int(in[5]&127)<<24 + int(in[6])<<16 + int(in[7])<<8 + int(in[8]), Body: in[9:]})
}

func (d *docConn) takes(f impl.Frame) int {
	switch impl.FrameCode(f) {
	case impl.FrameSize:
		return 6
	case impl.FrameStream:
		return 1
	}
	g := d.conn.G
	if (f.Kind == 9) != (g.Stream != 0) || f.Kind == 9 && f.Stream != g.Stream {
		return 1
	}
	switch f.Kind {
	case 0:
		return d.data(f)
	case 1:
		piece, ok := impl.Unpad(f)
		if !ok {
			return 1
		}
		g = impl.Gather{Stream: f.Stream, End: f.Flags&1 == 1, Buf: piece}
	case 9:
		g.Buf = slices.Concat(g.Buf, f.Body)
		if len(g.Buf) > 3000 {
			return 11
		}
	default:
		return d.other(f)
	}
	d.conn.G = g
	if f.Flags&4 == 0 {
		return 0
	}
	d.conn.G = impl.Gather{}
	return d.block(g)
}

func (d *docConn) other(f impl.Frame) int {
	switch {
	case f.Kind == 3 && f.Stream > d.conn.Last, f.Kind == 5, f.Kind == 8 && slices.Max([]byte{f.Body[0] & 127, f.Body[1], f.Body[2], f.Body[3]}) == 0:
		return 1
	case f.Kind == 3:
		delete(d.strs, f.Stream)
	case f.Kind == 4 && f.Flags&1 == 0:
		d.out += settingsAck
	case f.Kind == 6 && f.Flags&1 == 0:
		d.out += headBytes(8, 6, 1, 0) + string(f.Body)
	}
	return 0
}

func (d *docConn) data(f impl.Frame) int {
	s, there := d.strs[f.Stream]
	if !there {
		if f.Stream > d.conn.Last {
			return 1
		}
		return 0
	}
	data, ok := impl.Unpad(f)
	switch {
	case !ok:
		return 1
	case len(s.Body)+len(data) > topStrBody:
		return 11
	case s.State == impl.StHalfThere:
		return 5
	}
	s.Body = slices.Concat(s.Body, data)
	d.strs[s.Id] = s
	if f.Flags&1 == 1 {
		d.ends(s)
	}
	return 0
}

func (d *docConn) block(g impl.Gather) int {
	l, dec, code := impl.GetFields(d.conn.Dec, 4096, g.Buf)
	if code != impl.BlockGood {
		return 9
	}
	d.conn.Dec = dec
	s, there := d.strs[g.Stream]
	switch {
	case there && s.State == impl.StHalfThere:
		return 5
	case there && !g.End, !there && (g.Stream%2 == 0 || g.Stream <= d.conn.Last):
		return 1
	case there:
		d.ends(s)
		return 0
	case len(d.strs) == topStrs:
		return 11
	}
	d.conn.Last = g.Stream
	r, code := docReq(l)
	if code != impl.ReqGood {
		d.calls = append(d.calls, impl.Call{Stream: g.Stream, Code: code})
		return 0
	}
	s = impl.Str{Id: g.Stream, State: impl.StOpen, R: r}
	d.strs[s.Id] = s
	if g.End {
		d.ends(s)
	}
	return 0
}

func (d *docConn) ends(s impl.Str) {
	s.State = impl.StHalfThere
	d.strs[s.Id] = s
	d.calls = append(d.calls, impl.Call{Stream: s.Id, R: s.R, Body: s.Body})
}

// hearAll hears pieces one behind the other: what is called and answered to all of them, and the connection behind the last one.
func hearAll(t *testing.T, c impl.Conn, pieces ...[]byte) outcome {
	t.Helper()
	o := outcome{conn: c}
	for _, piece := range pieces {
		next, calls, out := impl.HearBytes(o.conn, piece)
		if impl.ConnOk(o.conn) && !impl.ConnOk(next) {
			t.Errorf("(%s) is not ConnOk, behind %.30x and (%s)", connTitle(next), piece, connTitle(o.conn))
		}
		o = outcome{next, append(o.calls, calls...), o.out + string(out)}
	}
	return o
}

func byteByByte(b string) [][]byte {
	return slices.Collect(slices.Chunk([]byte(b), 1))
}

// parts cuts bytes at drawn places; some of the pieces are empty.
func (d *drawer) parts(b string) [][]byte {
	var l [][]byte
	for len(b) > 0 {
		n := min(len(b), drawn(d, 0, 1, 2, 8, 9, 10, 1+d.draw(30), 1+d.draw(2000)))
		l = append(l, []byte(b[:n]))
		b = b[n:]
	}
	return l
}

// checkHear asks for this outcome, however the bytes are parted, and of the chapter's words, too.
func checkHear(t *testing.T, title string, c impl.Conn, b string, want outcome) outcome {
	t.Helper()
	title = fmt.Sprintf("%s: %d bytes %.60x to (%s)", title, len(b), b, connTitle(c))
	if got := docHear(c, b); !got.same(want) {
		t.Errorf("%s: the chapter's words give %v, not %v", title, got, want)
	}
	got := hearAll(t, c, []byte(b))
	if !got.same(want) {
		t.Errorf("%s: %v, not %v", title, got, want)
	}
	if parted := hearAll(t, c, byteByByte(b)...); !parted.same(want) {
		t.Errorf("%s, byte by byte: %v, not %v", title, parted, want)
	}
	if len(b) > 0 {
		for _, cut := range []int{1, len(b) / 3, len(b) / 2, len(b) - 1} {
			if parted := hearAll(t, c, []byte(b[:cut]), nil, []byte(b[cut:]), nil); !parted.same(want) {
				t.Errorf("%s, cut at %d: %v, not %v", title, cut, parted, want)
			}
		}
	}
	return got
}

// checkQuiet asks that nothing comes of it.
func checkQuiet(t *testing.T, title string, c impl.Conn, b string) {
	t.Helper()
	checkHear(t, title, c, b, outcome{conn: c})
}

// checkEnd asks that all ends with this code, and that nothing else comes of it, whatever stands behind it.
func checkEnd(t *testing.T, title string, c impl.Conn, b string, code int) {
	t.Helper()
	want := outcome{conn: ended(c, code), out: goAway(c.Last, code)}
	checkHear(t, title, c, b, want)
	behind := wire(pingFrame(0), wholeHead(c.Last+2|1, true, askBlock), goodOfKind(impl.FrSettings, 0, 0), dataFrame(1, 1, "more"), goodOfKind(impl.FrPush, 0, 1))
	if c.Last < topStream-2 {
		checkHear(t, title+", others behind it", c, b+behind, want)
	}
	checkQuiet(t, title+", heard by the dead", want.conn, behind)
}

// checkDoc asks for what the chapter's words give.
func checkDoc(t *testing.T, title string, c impl.Conn, b string) outcome {
	t.Helper()
	return checkHear(t, title, c, b, docHear(c, b))
}

func TestConstantsOfConnections(t *testing.T) {
	got := []int{impl.ErrNone, impl.ErrProtocol, impl.ErrClosed, impl.ErrSize, impl.ErrCompress, impl.ErrCalm}
	if !slices.Equal(got, []int{0, 1, 5, 6, 9, 11}) {
		t.Errorf("the constants are %v", got)
	}
}

func TestConnNew(t *testing.T) {
	c := impl.ConnNew()
	want := impl.Conn{Dec: impl.Table{Max: 4096}, Enc: impl.Table{Max: 4096}}
	if !sameConn(c, want) || !impl.ConnOk(c) {
		t.Errorf("ConnNew is (%s)", connTitle(c))
	}
	if c.Pre != 0 || len(c.In) != 0 || !sameGather(c.G, impl.Gather{}) || len(c.Strs) != 0 || c.Last != 0 || c.Dead != 0 {
		t.Errorf("ConnNew is (%s)", connTitle(c))
	}
	for _, x := range []impl.Table{c.Dec, c.Enc} {
		if x.Max != 4096 || len(x.Fields) != 0 {
			t.Errorf("ConnNew has the table %v", x)
		}
	}
}

func TestPreface(t *testing.T) {
	want := docPreface + "\x00\x00\x00\x04\x00\x00\x00\x00\x00"
	if got := string(impl.Preface()); got != want {
		t.Errorf("Preface is %q", got)
	}
	one := impl.Preface()
	turnAll(impl.Preface())
	if string(one) != want || string(impl.Preface()) != want {
		t.Error("Prefaces share memory")
	}
}

// A changed connection is busyConn with one thing changed, and whether it is ConnOk.
type changed struct {
	title string
	conn  impl.Conn
	ok    bool
}

func changedBy(title string, ok bool, change func(c *impl.Conn)) changed {
	c := busyConn()
	c.In = []byte("\x00\x00\x05")
	c.Dec, c.Enc = tableOf(160, 40, "ab"), tableOf(4096, 50, "cd")
	change(&c)
	return changed{title, c, ok}
}

func changedNumbers() []changed {
	var l []changed
	for _, n := range slices.Concat(greatNumbers, []int{-2, -1, 0, 1, 2, 9, 10, 20, 21, 22, 23, 24, 25, 26, 100, 256, 280, topStream - 1, topStream}) {
		title := fmt.Sprint(" ", n)
		l = append(l,
			changedBy("Pre"+title, n == 24, func(c *impl.Conn) { c.Pre = n }),
			changedBy("Pre, nothing in"+title, n >= 0 && n <= 24, func(c *impl.Conn) { c.Pre, c.In = n, nil }),
			changedBy("Last"+title, n >= 5 && n <= topStream, func(c *impl.Conn) { c.Last = n }),
			changedBy("Last, no streams"+title, n >= 0 && n <= topStream, func(c *impl.Conn) { c.Last, c.Strs = n, nil }),
			changedBy("Dead"+title, n == 0, func(c *impl.Conn) { c.Dead = n }),
			changedBy("Dead, no streams"+title, n == 0, func(c *impl.Conn) { c.Dead, c.Strs = n, nil }),
			changedBy("Dead, nothing in"+title, n == 0, func(c *impl.Conn) { c.Dead, c.In = n, nil }),
			changedBy("Dead, neither"+title, n >= 0 && n <= 20, func(c *impl.Conn) { c.Dead, c.In, c.Strs = n, nil, nil }),
			changedBy("Dead ahead of the preface"+title, n >= 0 && n <= 20, func(c *impl.Conn) { c.Pre, c.Dead, c.In, c.Strs = 5, n, nil, nil }),
			changedBy("State"+title, n == 1 || n == 2, func(c *impl.Conn) { c.Strs[0].State = n }),
			changedBy("State of the last"+title, n == 1 || n == 2, func(c *impl.Conn) { c.Strs[1].State = n }),
			changedBy("Id"+title, n == 1, func(c *impl.Conn) { c.Strs[0].Id = n }),
			changedBy("Id of the last"+title, n == 9, func(c *impl.Conn) { c.Strs[1].Id = n }),
		)
	}
	return l
}

func changedStreams() []changed {
	l := []changed{
		changedBy("twice", false, func(c *impl.Conn) { c.Strs[0].Id = 5 }),
		changedBy("not ascending", false, func(c *impl.Conn) { slices.Reverse(c.Strs) }),
		changedBy("not ascending behind", false, func(c *impl.Conn) { c.Strs = append(c.Strs, openStr(7, ""), openStr(3, "")) }),
		changedBy("twice behind", false, func(c *impl.Conn) { c.Strs = append(c.Strs, openStr(7, ""), openStr(7, "")) }),
		changedBy("even and below", false, func(c *impl.Conn) { c.Strs[0].Id = 2 }),
		changedBy("even, 4", false, func(c *impl.Conn) { c.Strs[0].Id = 4 }),
		changedBy("even, 8", false, func(c *impl.Conn) { c.Strs[1].Id = 8 }),
		changedBy("odd, below 1", false, func(c *impl.Conn) { c.Strs[0].Id = -3 }),
		changedBy("as Last", true, func(c *impl.Conn) { c.Strs[1].Id = 9 }),
		changedBy("above Last", false, func(c *impl.Conn) { c.Strs[1].Id = 11 }),
		changedBy("the greatest", true, func(c *impl.Conn) { c.Strs[1].Id, c.Last = topStream, topStream }),
		changedBy("above an even Last", false, func(c *impl.Conn) { c.Strs[1].Id, c.Last = 9, 8 }),
		changedBy("an even Last", true, func(c *impl.Conn) { c.Last = 6 }),
		changedBy("no request", true, func(c *impl.Conn) { c.Strs[0].R = impl.Req{} }),
	}
	for _, size := range []int{0, 1, 1999, 2000, 2001, 2002, 5000} {
		for at := range 2 {
			l = append(l, changedBy(fmt.Sprint("a Body of ", size), size <= 2000, func(c *impl.Conn) { c.Strs[at].Body = make([]byte, size) }))
		}
	}
	for _, count := range []int{0, 1, 2, 98, 99, 100, 101, 102, 200, 256, 356} {
		l = append(l, changedBy(fmt.Sprint(count, " streams"), count <= 100, func(c *impl.Conn) { c.Strs, c.Last = manyStrs(count), 2000 }))
	}
	return l
}

func changedIns() []changed {
	var l []changed
	in := func(title string, in string, ok bool) {
		l = append(l, changedBy("In: "+title, ok, func(c *impl.Conn) { c.In = []byte(in) }))
		l = append(l, changedBy("In ahead of the preface's end: "+title, in == "", func(c *impl.Conn) { c.Pre, c.In = 23, []byte(in) }))
		l = append(l, changedBy("In, dead: "+title, in == "", func(c *impl.Conn) { c.Dead, c.Strs, c.In = 3, nil, []byte(in) }))
	}
	for _, length := range []int{0, 1, 5, 8, 500, 999, 1000} {
		whole := headBytes(length, 0, 0, 0) + strings.Repeat("b", length)
		for _, cut := range []int{0, 1, 2, 3, 8, 9, 10, len(whole) - 1, len(whole)} {
			if cut <= len(whole) {
				in(fmt.Sprintf("%d of %d bytes", cut, len(whole)), whole[:cut], cut < len(whole))
			}
		}
		in(fmt.Sprint("one more than ", len(whole)), whole+"\x00", false)
		for _, size := range []int{1099, 1100, 1101, 1102, 5000} {
			in(fmt.Sprintf("%d bytes, of a frame of %d", size, length), whole+strings.Repeat("\x00", size-len(whole)), false)
		}
	}
	for _, length := range []int{1001, 1002, 1090, 1091, 1092, 2000, 1 << 16, 1<<24 - 1} {
		head := headBytes(length, 0, 0, 1)
		in(fmt.Sprint("eight bytes of too long a frame, ", length), head[:8], true)
		in(fmt.Sprint("the head of too long a frame, ", length), head, false)
		in(fmt.Sprint("1100 bytes of too long a frame, ", length), head+strings.Repeat("b", 1091), false)
		in(fmt.Sprint("1101 bytes of too long a frame, ", length), head+strings.Repeat("b", 1092), false)
	}
	in("what is no frame of its kind", headBytes(7, impl.FrPing, 0, 3)+"pi", true)
	return l
}

func changedBlocksAndTables() []changed {
	var l []changed
	for _, g := range wrongGathers() {
		l = append(l, changedBy("G "+gatherTitle(g), false, func(c *impl.Conn) { c.G = g }))
		l = append(l, changedBy("dead, G "+gatherTitle(g), false, func(c *impl.Conn) { c.G, c.Dead, c.In, c.Strs = g, 1, nil, nil }))
	}
	for _, g := range []impl.Gather{{}, begun(1, false, ""), begun(2, true, "abc"), begun(5, true, ""), begun(11, false, "x"), begun(topStream, true, strings.Repeat("b", 3000))} {
		l = append(l, changedBy("G "+gatherTitle(g), true, func(c *impl.Conn) { c.G = g }))
		l = append(l, changedBy("dead, G "+gatherTitle(g), true, func(c *impl.Conn) { c.G, c.Dead, c.In, c.Strs = g, 1, nil, nil }))
		l = append(l, changedBy("ahead of the preface, G "+gatherTitle(g), true, func(c *impl.Conn) { c.G, c.Pre, c.In = g, 3, nil }))
	}
	for _, x := range wrongTables() {
		title := fmt.Sprintf(" of Max %d, %d fields", x.Max, len(x.Fields))
		l = append(l, changedBy("Dec"+title, false, func(c *impl.Conn) { c.Dec = x }), changedBy("Enc"+title, false, func(c *impl.Conn) { c.Enc = x }))
		l = append(l, changedBy("dead, Dec"+title, false, func(c *impl.Conn) { c.Dec, c.Dead, c.In, c.Strs = x, 1, nil, nil }))
	}
	for _, x := range []impl.Table{{}, {Max: 1}, {Max: 4096}, tableOf(80, 40, "ab"), tableOf(4096, 4096, "a")} {
		l = append(l, changedBy("Dec", true, func(c *impl.Conn) { c.Dec = x }), changedBy("Enc", true, func(c *impl.Conn) { c.Enc = x }))
	}
	return l
}

func changedConns() []changed {
	return slices.Concat(changedNumbers(), changedStreams(), changedIns(), changedBlocksAndTables())
}

func TestConnOk(t *testing.T) {
	for _, c := range []impl.Conn{{}, impl.ConnNew(), busyConn(), connOf(0), connOf(199, manyStrs(100)...), ended(busyConn(), 11)} {
		if !impl.ConnOk(c) || !docConnOk(c) {
			t.Errorf("ConnOk of (%s) is %v", connTitle(c), impl.ConnOk(c))
		}
	}
	good, wrong := 0, 0
	for _, x := range changedConns() {
		if impl.ConnOk(x.conn) != x.ok || docConnOk(x.conn) != x.ok {
			t.Errorf("%s: ConnOk is %v", x.title, impl.ConnOk(x.conn))
		}
		if x.ok {
			good++
		} else {
			wrong++
		}
	}
	if good < 100 || wrong < 300 {
		t.Errorf("%d good ones, %d wrong ones", good, wrong)
	}
}

// somethingToHear has a call, an answer and an end in it, wherever it is heard.
var somethingToHear = docPreface + wire(goodOfKind(impl.FrSettings, 0, 0), wholeHead(11, true, askBlock), dataFrame(1, 1, "z"), goodOfKind(impl.FrPush, 0, 1))

func TestWhatIsNotConnOkHearsNothing(t *testing.T) {
	for _, x := range changedConns() {
		if x.ok {
			continue
		}
		for _, b := range []string{"", "P", somethingToHear, somethingToHear[24:], wire(dataFrame(1, 1, "z")), wire(pingFrame(0))} {
			got := hearAll(t, x.conn, []byte(b))
			if !got.same(outcome{conn: x.conn}) {
				t.Errorf("%s hears %.30x: %v", x.title, b, got)
			}
		}
	}
}

func TestTheDeadHearNothing(t *testing.T) {
	for code := 1; code <= 20; code++ {
		for _, c := range []impl.Conn{busyConn(), impl.ConnNew(), connOf(topStream), connOf(199, manyStrs(100)...)} {
			c = ended(c, code)
			for _, b := range []string{"", "P", somethingToHear, somethingToHear[24:], wire(pingFrame(0)), headBytes(1001, 0, 0, 1), "X"} {
				checkQuiet(t, "dead", c, b)
			}
			c.G = begun(1, true, askBlock)
			checkQuiet(t, "dead, with a block that has begun", c, wire(moreFrame(1, impl.FlagHead, "")))
		}
	}
}

// What is ConnOk hears on from where it is.
func TestEachGoodConnHearsOn(t *testing.T) {
	for _, x := range changedConns() {
		if x.ok {
			checkDoc(t, x.title+", nothing", x.conn, "")
			checkQuiet(t, x.title+", nothing", x.conn, "")
			checkDoc(t, x.title, x.conn, somethingToHear)
			checkDoc(t, x.title, x.conn, somethingToHear[max(0, min(24, x.conn.Pre)):])
			checkDoc(t, x.title, x.conn, strings.Repeat("\x00", 1010))
		}
	}
}

func TestPrefaceIsHeard(t *testing.T) {
	c := impl.ConnNew()
	checkQuiet(t, "nothing", c, "")
	for pre := range 25 {
		at := c
		at.Pre = pre
		checkHear(t, "a beginning", c, docPreface[:pre], outcome{conn: at})
		checkHear(t, "the rest", at, docPreface[pre:], outcome{conn: connOf(0)})
		checkHear(t, "the rest, and settings", at, docPreface[pre:]+wire(goodOfKind(impl.FrSettings, 0, 0)), outcome{conn: connOf(0), out: settingsAck})
		for to := pre; to <= 24; to++ {
			next := c
			next.Pre = to
			checkHear(t, "a piece", at, docPreface[pre:to], outcome{conn: next})
		}
	}
	checkHear(t, "Preface", c, string(impl.Preface()), outcome{conn: connOf(0), out: settingsAck})
}

func TestPrefaceWithAWrongByte(t *testing.T) {
	c := impl.ConnNew()
	c.Last = 7
	for at := range 24 {
		for x := range 256 {
			if byte(x) == docPreface[at] {
				continue
			}
			b := docPreface[:at] + string([]byte{byte(x)}) + docPreface[at+1:] + wire(pingFrame(0), wholeHead(9, true, askBlock))
			dead := ended(c, impl.ErrProtocol)
			dead.Pre = at
			if got := hearAll(t, c, []byte(b)); !got.same(outcome{dead, nil, goAway(7, 1)}) {
				t.Errorf("the byte %d as %d: %v", at, x, got)
			}
			if x%51 == 0 {
				checkHear(t, "a wrong byte", c, b, outcome{dead, nil, goAway(7, 1)})
			}
		}
		// A byte too few, and one too many.
		checkDoc(t, "a byte less", c, docPreface[:at]+docPreface[at+1:]+wire(pingFrame(0)))
		checkDoc(t, "a byte twice", c, docPreface[:at+1]+docPreface[at:]+wire(pingFrame(0)))
	}
	checkHear(t, "frames without it", impl.ConnNew(), wire(goodOfKind(impl.FrSettings, 0, 0)), outcome{ended(impl.ConnNew(), 1), nil, goAway(0, 1)})
	// It comes once.
	checkEnd(t, "twice", connOf(0), docPreface+docPreface, impl.ErrSize)
}

// Until all of a frame is there, nothing comes of it.
func TestFramesAreHeardOnceWhole(t *testing.T) {
	c := busyConn()
	for _, f := range []impl.Frame{pingFrame(0), dataFrame(1, 1, "data"), dataFrame(1, 0, strings.Repeat("d", 1000)), wholeHead(11, true, askBlock), goodOfKind(impl.FrPush, 0, 1), goodOfKind(impl.FrSettings, 0, 0), {Kind: 99, Body: make([]byte, 1000)}} {
		b := wire(f)
		for cut := 1; cut < len(b); cut += 1 + cut/20 {
			at := c
			at.In = []byte(b[:cut])
			checkHear(t, "a beginning", c, b[:cut], outcome{conn: at})
			if want := docHear(c, b); !hearAll(t, at, []byte(b[cut:])).same(want) || !docHear(at, b[cut:]).same(want) {
				t.Errorf("%s, cut at %d: the rest makes another one", frameTitle(f), cut)
			}
		}
		checkDoc(t, "whole", c, b)
		checkDoc(t, "whole, and a beginning", c, b+b[:len(b)-1])
	}
}

func TestFramesThatAreTooLong(t *testing.T) {
	for _, c := range []impl.Conn{connOf(0), busyConn(), connOf(199, manyStrs(100)...)} {
		for _, length := range []int{1001, 1002, 1100, 4096, 16384, 1 << 16, 1 << 23, 1<<24 - 1} {
			for _, kind := range []int{0, 1, 4, 6, 9, 99, 255} {
				head := headBytes(length, kind, 0, 1)
				at := c
				at.In = []byte(head[:8])
				checkHear(t, "eight bytes", c, head[:8], outcome{conn: at})
				checkEnd(t, "nine bytes", c, head, impl.ErrSize)
				checkEnd(t, "more bytes", c, head+strings.Repeat("b", 1200), impl.ErrSize)
				checkEnd(t, "the ninth byte", at, head[8:], impl.ErrSize)
			}
		}
		at := c
		at.In = []byte(headBytes(1000, 99, 0, 0) + strings.Repeat("b", 999))
		checkHear(t, "a byte less than the longest", c, string(at.In), outcome{conn: at})
		checkQuiet(t, "the longest", c, string(at.In)+"b")
	}
	// Too long counts ahead of what the frame would be, also while a block has begun.
	c := busyConn()
	c.G = begun(11, false, "")
	checkEnd(t, "too long while a block has begun", c, headBytes(1001, impl.FrMore, 0, 11), impl.ErrSize)
	checkEnd(t, "too long while a block has begun", c, headBytes(1001, impl.FrPing, 0, 1), impl.ErrSize)
}

// The highest bit of a stream means nothing.
func TestTheHighestBitOfAStreamIsPassedOver(t *testing.T) {
	c := busyConn()
	want := connOf(9, impl.Str{Id: 1, State: impl.StHalfThere, R: sendReq("a", 3), Body: []byte("xyz")}, endedStr(5, "ab"))
	checkHear(t, "data", c, headBytes(1, 0, 1, 1<<31+1)+"z", outcome{conn: want, calls: []impl.Call{{Stream: 1, R: sendReq("a", 3), Body: []byte("xyz")}}})
	checkHear(t, "ping", c, headBytes(8, 6, 0, 1<<31)+"pingpong", outcome{conn: c, out: pingAck})
	checkEnd(t, "a stream 0", c, headBytes(1, 0, 1, 1<<31)+"z", impl.ErrProtocol)
}

// triedFlags are the flags that mean something, and others, alone and together.
func triedFlags() []int {
	var l []int
	for mix := range 16 {
		l = append(l, mix&1+mix&2<<1+mix&4<<1+mix&8<<2)
	}
	return append(l, 2, 16, 64, 128, 3, 7, 254, 255)
}

// Each kind, with each flag, on each stream, with a body of each length that a kind wants, by the chapter's words.
func TestEachKindOnEachStream(t *testing.T) {
	c := busyConn()
	for _, kind := range []int{0, 1, 2, 3, 4, 5, 6, 7, 8, 9, 10, 11, 32, 128, 255} {
		for _, flags := range triedFlags() {
			for _, stream := range []int{0, 1, 2, 3, 5, 6, 9, 10, 11, 12, 13, topStream - 1, topStream} {
				for _, body := range []string{"", "\x00\x00\x00\x01", "\x00\x82\x84\x00\x00", "\x00\x00\x00\x00\x00\x01", "\x02\x0012345\x82\x00\x00", "12345678", "\x09" + askBlock} {
					f := impl.Frame{Kind: kind, Flags: flags, Stream: stream, Body: []byte(body)}
					b := wire(f, pingFrame(0))
					if got, want := hearAll(t, c, []byte(b)), docHear(c, b); !got.same(want) {
						t.Fatalf("%s: %v, not %v", frameTitle(f), got, want)
					}
				}
				checkDoc(t, "a frame of a good kind", c, wire(goodOfKind(kind, flags, stream)))
			}
		}
	}
}

// Kinds that nothing comes of, whatever they carry.
func TestKindsThatArePassedOver(t *testing.T) {
	for _, c := range []impl.Conn{connOf(0), busyConn()} {
		for _, flags := range triedFlags() {
			for _, stream := range []int{1, 2, 3, 5, 9, 11, 12, topStream} {
				checkQuiet(t, "priority", c, wire(goodOfKind(impl.FrPriority, flags, stream)))
				checkQuiet(t, "window", c, wire(impl.Frame{Kind: impl.FrWindow, Flags: flags, Stream: stream, Body: []byte{0, 0, 0, 1}}))
				checkQuiet(t, "no kind", c, wire(impl.Frame{Kind: 10 + stream%246, Flags: flags, Stream: stream, Body: []byte("abc")}))
			}
			checkQuiet(t, "window of all", c, wire(impl.Frame{Kind: impl.FrWindow, Flags: flags, Body: []byte{128, 0, 0, 1}}))
			checkQuiet(t, "go away", c, wire(impl.Frame{Kind: impl.FrGoAway, Flags: flags, Body: []byte("\x00\x00\x00\x01\x00\x00\x00\x00why")}))
			checkQuiet(t, "no kind, no stream", c, wire(impl.Frame{Kind: 99, Flags: flags, Body: []byte("abc")}))
			checkQuiet(t, "settings that are told back", c, wire(goodOfKind(impl.FrSettings, flags|impl.FlagAck, 0)))
			checkQuiet(t, "a ping that is told back", c, wire(pingFrame(flags|impl.FlagAck)))
		}
		for kind := 10; kind < 256; kind++ {
			checkQuiet(t, "no kind", c, wire(impl.Frame{Kind: kind, Stream: kind % 3, Body: []byte("\x00\x00\x00\x00")}))
		}
	}
}

func TestSettingsAndPingsAreAnswered(t *testing.T) {
	for _, c := range []impl.Conn{connOf(0), busyConn(), connOf(199, manyStrs(100)...)} {
		for _, flags := range triedFlags() {
			flags &^= impl.FlagAck
			checkHear(t, "settings", c, wire(goodOfKind(impl.FrSettings, flags, 0)), outcome{conn: c, out: settingsAck})
			for _, body := range []string{"\x00\x01\x00\x00\x00\x00", "\x00\x04\x00\x00\x00\x00\x00\x05\x00\xff\xff\xff", strings.Repeat("\xff", 996)} {
				checkHear(t, "settings", c, wire(impl.Frame{Kind: impl.FrSettings, Flags: flags, Body: []byte(body)}), outcome{conn: c, out: settingsAck})
			}
			checkHear(t, "ping", c, wire(pingFrame(flags)), outcome{conn: c, out: pingAck})
		}
		for _, body := range []string{"\x00\x00\x00\x00\x00\x00\x00\x00", "\xff\xff\xff\xff\xff\xff\xff\xff", "87654321"} {
			checkHear(t, "ping", c, wire(impl.Frame{Kind: impl.FrPing, Body: []byte(body)}), outcome{conn: c, out: headBytes(8, 6, 1, 0) + body})
		}
		many := wire(pingFrame(0), goodOfKind(impl.FrSettings, 0, 0), pingFrame(1), goodOfKind(impl.FrSettings, 1, 0), pingFrame(2), pingFrame(0))
		checkHear(t, "one behind the other", c, many, outcome{conn: c, out: pingAck + settingsAck + pingAck + pingAck})
	}
}

func TestFramesThatEndAll(t *testing.T) {
	for _, c := range []impl.Conn{connOf(0), connOf(topStream), busyConn(), connOf(199, manyStrs(100)...)} {
		for _, flags := range []int{0, 1, 4, 5, 8, 255} {
			for _, stream := range []int{1, 2, 3, 5, 9, topStream} {
				checkEnd(t, "push", c, wire(impl.Frame{Kind: impl.FrPush, Flags: flags, Stream: stream, Body: []byte("\x00\x00\x00\x02")}), impl.ErrProtocol)
				checkEnd(t, "more of nothing", c, wire(moreFrame(stream, flags, askBlock)), impl.ErrProtocol)
			}
			for _, stream := range []int{0, 1, 2, 3, 9, topStream} {
				for _, body := range []string{"\x00\x00\x00\x00", "\x80\x00\x00\x00"} {
					checkEnd(t, "a window of 0", c, wire(impl.Frame{Kind: impl.FrWindow, Flags: flags, Stream: stream, Body: []byte(body)}), impl.ErrProtocol)
				}
			}
		}
	}
}

// What FrameCode refuses, refuses the connection, also while a block has begun.
func TestFrameCodesEndAll(t *testing.T) {
	c := busyConn()
	between := c
	between.G = begun(1, true, askBlock)
	for _, rule := range kindRules {
		for _, flags := range rule.flags {
			for _, stream := range []int{0, 1, 5, 11, topStream} {
				for _, length := range []int{0, 1, 3, 4, 5, 6, 7, 8, 9, 12, 13, 996, 1000} {
					f := impl.Frame{Kind: rule.kind, Flags: flags, Stream: stream, Body: make([]byte, length)}
					want := impl.ErrNone
					if rule.where == ofAStream && stream == 0 || rule.where == ofNone && stream != 0 {
						want = impl.ErrProtocol
					}
					if rule.lengths != nil && !slices.Contains(rule.lengths, length) {
						want = impl.ErrSize
					}
					if want == impl.ErrNone {
						continue
					}
					checkEnd(t, "FrameCode of "+frameTitle(f), c, wire(f), want)
					checkEnd(t, "FrameCode while a block has begun of "+frameTitle(f), between, wire(f), want)
				}
			}
		}
	}
}

// A block in one frame and in several makes the same, wherever it is cut.
func TestBlocksInOneFrameAndInSeveral(t *testing.T) {
	for _, end := range []bool{false, true} {
		for _, block := range []string{askBlock, sendBlock, formBlock, methodBlock, wrongBlock, "", "\x42\x04HEAD\x87\x44\x05/up/a"} {
			for _, stream := range []int{1, 5, 9, 10, 11, topStream} {
				want := docHear(busyConn(), wire(wholeHead(stream, end, block)))
				checkHear(t, "in one frame", busyConn(), wire(wholeHead(stream, end, block)), want)
				for most := 1; most <= len(block); most++ {
					b := wire(impl.Part(stream, end, []byte(block), most)...)
					checkHear(t, fmt.Sprint("in frames of ", most), busyConn(), b, want)
				}
				flags := wholeHead(stream, end, "").Flags &^ impl.FlagHead
				padded := wire(headFrame(stream, flags|bothFlags, "\x0312345"+block+"pad"), moreFrame(stream, 0, ""), moreFrame(stream, impl.FlagHead|impl.FlagEnd, ""))
				checkHear(t, "padded, and empty ones behind", busyConn(), padded, want)
			}
		}
	}
}

// While a block has begun it is kept, and only what goes on with it may come.
func TestBlocksThatHaveBegun(t *testing.T) {
	c := busyConn()
	at := c
	at.G = begun(11, true, askBlock)
	checkHear(t, "a beginning", c, wire(headFrame(11, impl.FlagEnd, askBlock)), outcome{conn: at})
	checkHear(t, "a beginning, in two", c, wire(headFrame(11, impl.FlagEnd, askBlock[:4]), moreFrame(11, 0, askBlock[4:])), outcome{conn: at})
	behind := connOf(11, openStr(1, "xy"), endedStr(5, "ab"), impl.Str{Id: 11, State: impl.StHalfThere, R: askReq("a")})
	checkHear(t, "its end", at, wire(moreFrame(11, impl.FlagHead, "")), outcome{conn: behind, calls: []impl.Call{{Stream: 11, R: askReq("a")}}})
	// Of more of it FlagEnd means nothing.
	at.G.End = false
	behind.Strs[2].State = impl.StOpen
	checkHear(t, "its end", at, wire(moreFrame(11, impl.FlagHead|impl.FlagEnd, "")), outcome{conn: behind})
	for kind := range 256 {
		for _, stream := range []int{0, 1, 2, 5, 9, 11, 13} {
			for _, flags := range []int{0, impl.FlagAck, impl.FlagHead} {
				f := goodOfKind(kind, flags, stream)
				if kind == impl.FrWindow {
					f.Body = []byte{0, 0, 0, 9}
				}
				if kind == impl.FrMore && stream == 11 || impl.FrameCode(f) != impl.FrameGood {
					continue
				}
				got, want := hearAll(t, at, []byte(wire(f, moreFrame(11, impl.FlagHead, "")))), outcome{conn: ended(at, 1), out: goAway(9, 1)}
				if !got.same(want) {
					t.Errorf("%s while a block has begun: %v", frameTitle(f), got)
				}
			}
		}
	}
	checkEnd(t, "a block within a block", at, wire(wholeHead(11, true, askBlock)), impl.ErrProtocol)
	checkEnd(t, "a block within a block", at, wire(wholeHead(13, true, askBlock)), impl.ErrProtocol)
	checkEnd(t, "what is no kind within a block", at, wire(impl.Frame{Kind: 99}), impl.ErrProtocol)
	checkEnd(t, "more of another stream", at, wire(moreFrame(1, impl.FlagHead, "")), impl.ErrProtocol)
}

func TestBlocksPaddedWrongly(t *testing.T) {
	c := busyConn()
	for _, stream := range []int{1, 5, 9, 10, 11} {
		for _, head := range []int{0, impl.FlagHead, impl.FlagHead | impl.FlagEnd} {
			for _, x := range []struct {
				flags int
				body  string
			}{
				{impl.FlagPad, ""}, {impl.FlagPad, "\x01"}, {impl.FlagPad, "\xff" + askBlock}, {impl.FlagPad, "\x0f" + askBlock},
				{impl.FlagPrio, ""}, {impl.FlagPrio, "1234"}, {bothFlags, ""}, {bothFlags, "\x001234"}, {bothFlags, "\x0112345"}, {bothFlags, "\x0512345"},
			} {
				checkEnd(t, "padded wrongly", c, wire(headFrame(stream, head|x.flags, x.body)), impl.ErrProtocol)
			}
		}
	}
	// More of a block has no padding: its bytes are as they are.
	checkEnd(t, "more, padded", c, wire(headFrame(11, 0, ""), moreFrame(11, impl.FlagHead|impl.FlagPad, "\x00"+askBlock)), impl.ErrCompress)
}

func TestBlocksThatAreTooLong(t *testing.T) {
	// A field whose value fills the block, behind those of a request.
	filled := func(size int) string {
		block := askBlock + "\x00\x01x"
		rest := size - len(block) - 3
		return block + string(impl.PutPrefix(nil, 7, 0, rest)) + strings.Repeat("v", rest)
	}
	c := busyConn()
	behind := connOf(11, openStr(1, "xy"), endedStr(5, "ab"), impl.Str{Id: 11, State: impl.StHalfThere, R: askReq("a")})
	for _, most := range []int{1, 7, 100, 999, 1000} {
		for _, size := range []int{1000, 1001, 2999, 3000} {
			if len(filled(size)) != size {
				t.Fatal(size, len(filled(size)))
			}
			b := wire(impl.Part(11, true, []byte(filled(size)), most)...)
			got := hearAll(t, c, []byte(b))
			if want := (outcome{conn: behind, calls: []impl.Call{{Stream: 11, R: askReq("a")}}}); !got.same(want) || !docHear(c, b).same(want) {
				t.Errorf("a block of %d bytes by %d: %v", size, most, got)
			}
		}
		for _, size := range []int{3001, 3002, 4000} {
			for _, stream := range []int{1, 5, 9, 10, 11} {
				b := wire(impl.Part(stream, true, []byte(filled(size)), most)...)
				got := hearAll(t, c, []byte(b+wire(pingFrame(0))))
				if want := (outcome{conn: ended(c, 11), out: goAway(9, 11)}); !got.same(want) || !docHear(c, b).same(want) {
					t.Errorf("a block of %d bytes by %d: %v", size, most, got)
				}
			}
		}
	}
	at := c
	at.G = begun(11, false, strings.Repeat("b", 3000))
	checkEnd(t, "a byte more", at, wire(moreFrame(11, 0, "b")), impl.ErrCalm)
	checkEnd(t, "a byte more, at its end", at, wire(moreFrame(11, impl.FlagHead, "b")), impl.ErrCalm)
	checkQuiet(t, "no byte more", at, wire(moreFrame(11, 0, "")))
}

// Fields that can't be read end all, of whatever stream they are, ahead of what the stream is asked.
func TestBlocksThatCanNotBeRead(t *testing.T) {
	full := connOf(199, manyStrs(100)...)
	for _, c := range []impl.Conn{connOf(0), busyConn(), full} {
		for _, stream := range []int{1, 2, 3, 5, 9, 10, 11, 201, topStream} {
			for _, x := range faultPieces {
				for _, end := range []bool{false, true} {
					b := wire(impl.Part(stream, end, []byte(x.b), 300)...)
					got := hearAll(t, c, []byte(b))
					if want := (outcome{conn: ended(c, 9), out: goAway(c.Last, 9)}); !got.same(want) || !docHear(c, b).same(want) {
						t.Errorf("%.20x on %d: %v", x.b, stream, got)
					}
				}
			}
			checkEnd(t, "no field", c, wire(wholeHead(stream, true, wrongBlock)), impl.ErrCompress)
			checkEnd(t, "no field behind a request", c, wire(wholeHead(stream, true, askBlock+wrongBlock)), impl.ErrCompress)
		}
	}
	// A size is held against 4096, not against what the table has now.
	small := connOf(0)
	small.Dec.Max = 10
	behind := connOf(1, impl.Str{Id: 1, State: impl.StOpen, R: askReq("a")})
	checkHear(t, "the greatest size", small, wire(wholeHead(1, false, sizeTold(4096)+askBlock)), outcome{conn: behind})
	checkEnd(t, "a size too great", small, wire(wholeHead(1, false, sizeTold(4097)+askBlock)), impl.ErrCompress)
	behind.Dec.Max = 0
	checkHear(t, "the least size", small, wire(wholeHead(1, false, sizeTold(0)+askBlock)), outcome{conn: behind})
	// What is in the table counts: a field of it, and the one behind the last.
	small.Dec = impl.Table{Max: 100, Fields: fieldsBy(":path", "/up/b")}
	behind.Dec, behind.Strs[0].R = small.Dec, askReq("b")
	checkHear(t, "by number", small, wire(wholeHead(1, false, "\x02\x04HEAD\x87"+indexed(62))), outcome{conn: behind})
	checkEnd(t, "no such number", small, wire(wholeHead(1, false, "\x02\x04HEAD\x87"+indexed(63))), impl.ErrCompress)
}

// The table goes on from block to block, also where the fields are passed over or make no request.
func TestTheTableGoesOn(t *testing.T) {
	add := func(name string, value string) string {
		return "\x40" + plainText(name) + plainText(value)
	}
	c := busyConn()
	o := checkHear(t, "fields that are passed over", c, wire(wholeHead(1, true, add("n", "1"))), docHear(c, wire(wholeHead(1, true, add("n", "1")))))
	if !slices.Equal(o.conn.Dec.Fields, fieldsBy("n", "1")) {
		t.Errorf("the table has %q", o.conn.Dec.Fields)
	}
	o = checkDoc(t, "no request", o.conn, wire(wholeHead(11, true, add("m", "2"))))
	if !slices.Equal(o.conn.Dec.Fields, fieldsBy("m", "2", "n", "1")) || len(o.calls) != 1 || o.calls[0].Code != impl.ReqForm {
		t.Errorf("the table has %q, %s", o.conn.Dec.Fields, callsTitle(o.calls))
	}
	o = checkDoc(t, "a request", o.conn, wire(wholeHead(13, true, "\x42\x04HEAD\x87\x44\x05/up/z")))
	if !slices.Equal(o.conn.Dec.Fields, fieldsBy(":path", "/up/z", ":method", "HEAD", "m", "2", "n", "1")) {
		t.Errorf("the table has %q", o.conn.Dec.Fields)
	}
	o = checkDoc(t, "by numbers", o.conn, wire(wholeHead(15, true, indexed(63)+"\x87"+indexed(62))))
	if len(o.calls) != 1 || o.calls[0].R != askReq("z") || len(o.conn.Dec.Fields) != 4 || len(o.conn.Enc.Fields) != 0 {
		t.Errorf("%v", o)
	}
	// What was read ahead of the fault of a stream stays read; what can't be read leaves the table as it was.
	o = checkDoc(t, "an even stream", o.conn, wire(wholeHead(16, true, add("e", "3"))))
	if o.conn.Dead != impl.ErrProtocol || len(o.conn.Dec.Fields) != 5 {
		t.Errorf("%v", o)
	}
	o = checkDoc(t, "a block that can't be read", busyConn(), wire(wholeHead(11, true, add("e", "3")+wrongBlock)))
	if o.conn.Dead != impl.ErrCompress || len(o.conn.Dec.Fields) != 0 {
		t.Errorf("%v", o)
	}
}

// Fields of a stream that is there: its end, or a fault; they are passed over, whatever they are.
func TestFieldsOfAStreamThatIsThere(t *testing.T) {
	c := busyConn()
	for _, block := range []string{askBlock, sendBlock, formBlock, methodBlock, pathBlock, numberBlock, "", "\x00\x00\x00"} {
		behind := busyConn()
		behind.Strs[0].State = impl.StHalfThere
		checkHear(t, "its end", c, wire(wholeHead(1, true, block)), outcome{conn: behind, calls: []impl.Call{{Stream: 1, R: sendReq("a", 3), Body: []byte("xy")}}})
		checkEnd(t, "not its end", c, wire(wholeHead(1, false, block)), impl.ErrProtocol)
		checkEnd(t, "behind its end", c, wire(wholeHead(5, false, block)), impl.ErrClosed)
		checkEnd(t, "a second end", c, wire(wholeHead(5, true, block)), impl.ErrClosed)
	}
	// That there are many is asked of new ones alone.
	full := connOf(199, manyStrs(100)...)
	behind := connOf(199, manyStrs(100)...)
	behind.Strs[99].State = impl.StHalfThere
	checkHear(t, "the end of the last of many", full, wire(wholeHead(199, true, askBlock)), outcome{conn: behind, calls: []impl.Call{{Stream: 199, R: sendReq("a", 3), Body: []byte("xy")}}})
}

func TestNewStreams(t *testing.T) {
	for _, last := range []int{0, 1, 9, 10, 99, 1 << 16, 1<<24 + 1, topStream - 3, topStream - 2, topStream - 1} {
		c := connOf(last)
		for _, id := range []int{last + 1, last + 2, last + 3, last + 4, topStream, topStream - 1} {
			if id <= last || id > topStream {
				continue
			}
			title := fmt.Sprintf("%d above %d", id, last)
			if id%2 == 0 {
				checkEnd(t, title, c, wire(wholeHead(id, true, askBlock)), impl.ErrProtocol)
				checkEnd(t, title, c, wire(wholeHead(id, false, formBlock)), impl.ErrProtocol)
				continue
			}
			s := impl.Str{Id: id, State: impl.StOpen, R: askReq("a")}
			checkHear(t, title, c, wire(wholeHead(id, false, askBlock)), outcome{conn: connOf(id, s)})
			s.State = impl.StHalfThere
			checkHear(t, title, c, wire(wholeHead(id, true, askBlock)), outcome{conn: connOf(id, s), calls: []impl.Call{{Stream: id, R: askReq("a")}}})
		}
	}
	for _, c := range []impl.Conn{busyConn(), connOf(9), connOf(199, manyStrs(99)[1:]...)} {
		for _, id := range []int{1, 2, 3, 4, 6, 7, 8, 9, c.Last - 1, c.Last} {
			if slices.ContainsFunc(c.Strs, func(s impl.Str) bool { return s.Id == id }) {
				continue
			}
			for _, end := range []bool{false, true} {
				checkEnd(t, fmt.Sprintf("%d, not above %d", id, c.Last), c, wire(wholeHead(id, end, askBlock)), impl.ErrProtocol)
				checkEnd(t, fmt.Sprintf("%d, not above %d", id, c.Last), c, wire(wholeHead(id, end, formBlock)), impl.ErrProtocol)
			}
		}
	}
	// The requests are those of the fields, each Op of them.
	for i, r := range []impl.Req{makeReq("abc", 60), askReq("0"), sendReq("12345678", topNumber), doneReq("z9", topWord), readReq("x"), dropReq("y")} {
		block, _ := impl.PutFields(impl.Table{}, impl.FieldsOf(r))
		c := connOf(10)
		want := connOf(11, impl.Str{Id: 11, State: impl.StOpen, R: r})
		o := checkDoc(t, "a request", c, wire(wholeHead(11, false, string(block))))
		o.conn.Dec = impl.Table{Max: 4096}
		if !o.same(outcome{conn: want}) {
			t.Errorf("%d: %v", i, o)
		}
	}
}

func TestManyStreams(t *testing.T) {
	for count := 97; count <= 100; count++ {
		for _, last := range []int{199, 201, 1001} {
			c := connOf(last, manyStrs(count)...)
			for _, end := range []bool{false, true} {
				next := wholeHead(last+2, end, askBlock)
				if count == 100 {
					checkEnd(t, "a 101st", c, wire(next), impl.ErrCalm)
					checkEnd(t, "a 101st, no request", c, wire(wholeHead(last+2, end, formBlock)), impl.ErrCalm)
					checkEnd(t, "an even one", c, wire(wholeHead(last+1, end, askBlock)), impl.ErrProtocol)
					checkEnd(t, "one that can't be read", c, wire(wholeHead(last+2, end, wrongBlock)), impl.ErrCompress)
					continue
				}
				o := checkDoc(t, "one more", c, wire(next))
				if o.conn.Dead != 0 || len(o.conn.Strs) != count+1 || o.conn.Last != last+2 || (len(o.calls) == 1) != end {
					t.Errorf("one more than %d: %v", count, o)
				}
				o = checkDoc(t, "one more, no request", c, wire(wholeHead(last+2, end, formBlock)))
				if o.conn.Dead != 0 || len(o.conn.Strs) != count || o.conn.Last != last+2 || len(o.calls) != 1 {
					t.Errorf("no request behind %d: %v", count, o)
				}
			}
		}
	}
	// One that is gone makes room for another one.
	c := connOf(199, manyStrs(100)...)
	o := checkDoc(t, "one is gone", c, wire(goodOfKind(impl.FrReset, 0, 1), wholeHead(201, true, askBlock)))
	if o.conn.Dead != 0 || len(o.conn.Strs) != 100 || len(o.calls) != 1 {
		t.Errorf("%v", o)
	}
	answered, _, ok := impl.AnswerWith(c, 5, untold(200))
	o = checkDoc(t, "one is answered", answered, wire(wholeHead(201, true, askBlock), wholeHead(203, true, askBlock)))
	if !ok || o.conn.Dead != impl.ErrCalm || o.conn.Last != 201 || len(o.calls) != 1 || o.out != goAway(201, 11) {
		t.Errorf("%v", o)
	}
}

func TestRequestsThatAreNone(t *testing.T) {
	for code, block := range map[int]string{impl.ReqForm: formBlock, impl.ReqMethod: methodBlock, impl.ReqPath: pathBlock, impl.ReqNumber: numberBlock} {
		for _, end := range []bool{false, true} {
			for _, c := range []impl.Conn{connOf(0), busyConn(), connOf(199, manyStrs(99)...)} {
				want := c
				want.Last = c.Last&^1 + 3
				call := impl.Call{Stream: want.Last, Code: code}
				b := wire(wholeHead(want.Last, end, block))
				checkHear(t, "no request", c, b, outcome{conn: want, calls: []impl.Call{call}})
				// It is not kept, but it was there: its data is passed over, its fields and its answer are not.
				checkHear(t, "its data", c, b+wire(dataFrame(want.Last, 1, "data")), outcome{conn: want, calls: []impl.Call{call}})
				checkHear(t, "its reset", c, b+wire(goodOfKind(impl.FrReset, 0, want.Last)), outcome{conn: want, calls: []impl.Call{call}})
				checkHear(t, "its fields", c, b+wire(wholeHead(want.Last, true, askBlock)), outcome{ended(want, 1), []impl.Call{call}, goAway(want.Last, 1)})
				checkNoAnswer(t, want, want.Last, untold(400))
			}
		}
	}
	o := checkDoc(t, "no field", connOf(0), wire(wholeHead(1, true, "")))
	if len(o.calls) != 1 || !sameCall(o.calls[0], impl.Call{Stream: 1, Code: impl.ReqForm}) {
		t.Errorf("%v", o)
	}
}

func TestDataOfAStreamThatIsThere(t *testing.T) {
	c := busyConn()
	for _, x := range []struct {
		flags      int
		body, data string
	}{
		{0, "", ""}, {0, "z", "z"}, {0, "\x00\xff", "\x00\xff"}, {0, strings.Repeat("d", 1000), strings.Repeat("d", 1000)},
		{impl.FlagPad, "\x00z", "z"}, {impl.FlagPad, "\x02zpp", "z"}, {impl.FlagPad, "\x00", ""}, {impl.FlagPad, "\x03ppp", ""}, {impl.FlagPad, "\xff" + strings.Repeat("p", 255), ""},
		// FlagHead and FlagPrio mean nothing here.
		{impl.FlagHead, "z", "z"}, {impl.FlagPrio, "12345z", "12345z"}, {impl.FlagPrio, "z", "z"}, {bothFlags, "\x0112345zp", "12345z"}, {2 + 16 + 64 + 128, "z", "z"},
	} {
		want := busyConn()
		want.Strs[0].Body = []byte("xy" + x.data)
		checkHear(t, "data", c, wire(dataFrame(1, x.flags, x.body)), outcome{conn: want})
		want.Strs[0].State = impl.StHalfThere
		checkHear(t, "its end", c, wire(dataFrame(1, x.flags|impl.FlagEnd, x.body)), outcome{conn: want, calls: []impl.Call{{Stream: 1, R: sendReq("a", 3), Body: []byte("xy" + x.data)}}})
		checkEnd(t, "behind its end", c, wire(dataFrame(5, x.flags, x.body)), impl.ErrClosed)
		checkEnd(t, "a second end", c, wire(dataFrame(5, x.flags|impl.FlagEnd, x.body)), impl.ErrClosed)
	}
	for _, stream := range []int{1, 5} {
		for _, flags := range []int{impl.FlagPad, impl.FlagPad | impl.FlagEnd, bothFlags} {
			for _, body := range []string{"", "\x01", "\x02z", "\xff" + strings.Repeat("p", 254)} {
				checkEnd(t, "padded wrongly", c, wire(dataFrame(stream, flags, body)), impl.ErrProtocol)
			}
		}
	}
	// Two streams by turns.
	two := connOf(9, openStr(1, ""), openStr(3, ""))
	want := connOf(9, openStr(1, "ad"), openStr(3, "bce"))
	want.Strs[0].State, want.Strs[1].State = impl.StHalfThere, impl.StHalfThere
	b := wire(dataFrame(1, 0, "a"), dataFrame(3, 0, "b"), dataFrame(3, 0, "c"), dataFrame(1, 1, "d"), pingFrame(0), dataFrame(3, 1, "e"))
	checkHear(t, "by turns", two, b, outcome{want, []impl.Call{{Stream: 1, R: sendReq("a", 3), Body: []byte("ad")}, {Stream: 3, R: sendReq("a", 3), Body: []byte("bce")}}, pingAck})
}

// A Body has at most 2000 bytes, of however many frames; padding does not count.
func TestBodiesThatAreTooLong(t *testing.T) {
	for _, ahead := range []int{0, 1, 1000, 1001, 1500, 1999, 2000} {
		for _, size := range []int{0, 1, 2, 499, 500, 501, 744, 745, 998, 999, 1000} {
			for _, flags := range []int{0, impl.FlagEnd} {
				c := connOf(9, openStr(1, strings.Repeat("a", ahead)), endedStr(5, strings.Repeat("b", ahead)))
				data := strings.Repeat("d", size)
				title := fmt.Sprintf("%d bytes behind %d", size, ahead)
				code := impl.ErrNone
				if ahead+size > 2000 {
					code = impl.ErrCalm
				}
				o := checkDoc(t, title, c, wire(dataFrame(1, flags, data)))
				if o.conn.Dead != code || code == 0 && len(o.conn.Strs[0].Body) != ahead+size {
					t.Errorf("%s: %v", title, o)
				}
				if size <= 745 {
					o = checkDoc(t, title+", padded", c, wire(dataFrame(1, flags|impl.FlagPad, "\xfe"+data+strings.Repeat("p", 254))))
					if o.conn.Dead != code {
						t.Errorf("%s, padded: %v", title, o)
					}
				}
				// Too much counts ahead of the stream's end.
				if code == impl.ErrNone {
					code = impl.ErrClosed
				}
				checkEnd(t, title, c, wire(dataFrame(5, flags, data)), code)
			}
		}
	}
}

func TestDataAndResetsOfAStreamThatIsNotThere(t *testing.T) {
	bodies := []string{"", "z", strings.Repeat("d", 1000), "\xffz"}
	for _, c := range []impl.Conn{connOf(0), connOf(9), connOf(10), busyConn(), connOf(topStream)} {
		for _, stream := range []int{2, 3, 4, 6, 7, 8, 9, 10, 11, 12, 13, 1000, topStream - 1, topStream} {
			for _, flags := range []int{0, impl.FlagEnd, impl.FlagPad, impl.FlagPad | impl.FlagEnd, 255} {
				for _, body := range bodies {
					b := wire(dataFrame(stream, flags, body))
					if stream > c.Last {
						checkEnd(t, "data that never was asked for", c, b, impl.ErrProtocol)
					} else {
						checkQuiet(t, "data of what is gone", c, b)
					}
				}
				b := wire(goodOfKind(impl.FrReset, flags, stream))
				if stream > c.Last {
					checkEnd(t, "a reset of what never was", c, b, impl.ErrProtocol)
				} else {
					checkQuiet(t, "a reset of what is gone", c, b)
				}
			}
		}
	}
}

func TestResets(t *testing.T) {
	for _, flags := range []int{0, 1, 255} {
		for _, why := range []string{"\x00\x00\x00\x00", "\x00\x00\x00\x08", "\xff\xff\xff\xff"} {
			reset := func(stream int) string {
				return wire(impl.Frame{Kind: impl.FrReset, Flags: flags, Stream: stream, Body: []byte(why)})
			}
			checkHear(t, "an open one", busyConn(), reset(1), outcome{conn: connOf(9, endedStr(5, "ab"))})
			checkHear(t, "an ended one", busyConn(), reset(5), outcome{conn: connOf(9, openStr(1, "xy"))})
			checkHear(t, "both, and again", busyConn(), reset(5)+reset(1)+reset(5)+reset(1)+wire(dataFrame(1, 1, "z")), outcome{conn: connOf(9)})
			checkEnd(t, "fields behind it", connOf(9, endedStr(5, "ab")), wire(wholeHead(1, true, askBlock)), impl.ErrProtocol)
		}
	}
	for at := range 100 {
		c := connOf(199, manyStrs(100)...)
		want := connOf(199, slices.Delete(manyStrs(100), at, at+1)...)
		checkHear(t, "one of many", c, wire(goodOfKind(impl.FrReset, 0, 2*at+1)), outcome{conn: want})
	}
}

// What is heard and answered ahead of a fault stays; nothing is heard or answered behind it.
func TestWhatIsAheadOfAFault(t *testing.T) {
	c := busyConn()
	ahead := wire(goodOfKind(impl.FrSettings, 0, 0), dataFrame(1, 1, "z"), wholeHead(11, false, sendBlock), pingFrame(0), wholeHead(13, true, methodBlock), wholeHead(15, true, askBlock), dataFrame(11, 0, "d"), goodOfKind(impl.FrReset, 0, 5))
	calls := []impl.Call{{Stream: 1, R: sendReq("a", 3), Body: []byte("xyz")}, {Stream: 13, Code: impl.ReqMethod}, {Stream: 15, R: askReq("a")}}
	out := settingsAck + pingAck
	alive := connOf(15, openStr(1, "xyz"), openStr(11, "d"), impl.Str{Id: 15, State: impl.StHalfThere, R: askReq("a")})
	alive.Strs[0].State = impl.StHalfThere
	checkHear(t, "no fault", c, ahead, outcome{alive, calls, out})
	behind := wire(pingFrame(0), wholeHead(17, true, askBlock), dataFrame(11, 1, "e"), goodOfKind(impl.FrSettings, 0, 0), goodOfKind(impl.FrPush, 0, 1))
	for _, x := range []struct {
		fault string
		code  int
	}{
		{wire(goodOfKind(impl.FrPush, 0, 1)), impl.ErrProtocol},
		{wire(moreFrame(11, impl.FlagHead, askBlock)), impl.ErrProtocol},
		{wire(dataFrame(0, 0, "z")), impl.ErrProtocol},
		{wire(dataFrame(17, 0, "z")), impl.ErrProtocol},
		{wire(dataFrame(11, impl.FlagPad, "\x09")), impl.ErrProtocol},
		{wire(goodOfKind(impl.FrReset, 0, 17)), impl.ErrProtocol},
		{wire(goodOfKind(impl.FrWindow, 0, 0)), impl.ErrProtocol},
		{wire(wholeHead(16, true, askBlock)), impl.ErrProtocol},
		{wire(wholeHead(5, true, askBlock)), impl.ErrProtocol},
		{wire(wholeHead(11, false, askBlock)), impl.ErrProtocol},
		{wire(headFrame(17, 0, askBlock), pingFrame(0)), impl.ErrProtocol},
		{wire(dataFrame(15, 0, "")), impl.ErrClosed},
		{wire(dataFrame(1, 1, "z")), impl.ErrClosed},
		{wire(wholeHead(15, true, askBlock)), impl.ErrClosed},
		{wire(impl.Frame{Kind: impl.FrPing, Body: []byte("pingpon")}), impl.ErrSize},
		{wire(impl.Frame{Kind: impl.FrSettings, Flags: impl.FlagAck, Body: []byte("123456")}), impl.ErrSize},
		{wire(impl.Frame{Kind: impl.FrSettings, Body: []byte("12345")}), impl.ErrSize},
		{headBytes(1001, impl.FrData, 0, 11), impl.ErrSize},
		{wire(wholeHead(17, true, wrongBlock)), impl.ErrCompress},
		{wire(wholeHead(11, true, wrongBlock)), impl.ErrCompress},
		{wire(dataFrame(11, 0, strings.Repeat("d", 1000)), dataFrame(11, 0, strings.Repeat("d", 1000))), impl.ErrCalm},
		{wire(impl.Part(17, true, make([]byte, 3001), 1000)...), impl.ErrCalm},
	} {
		want := outcome{ended(alive, x.code), calls, out + goAway(15, x.code)}
		checkHear(t, "a fault", c, ahead+x.fault, want)
		checkHear(t, "a fault, others behind it", c, ahead+x.fault+behind, want)
		checkHear(t, "a fault, itself behind it", c, ahead+x.fault+x.fault, want)
		checkHear(t, "a fault behind the preface", impl.ConnNew(), string(impl.Preface())+x.fault+behind, docHear(connOf(0), string(impl.Preface())[24:]+x.fault+behind))
	}
}

// The last one that began is told, not one that is refused.
func TestWhatGoAwayTells(t *testing.T) {
	for _, last := range []int{0, 1, 255, 256, 1<<16 + 3, 1<<24 + 5, topStream - 2, topStream} {
		c := connOf(last)
		checkEnd(t, "push", c, wire(goodOfKind(impl.FrPush, 0, 1)), impl.ErrProtocol)
		o := checkDoc(t, "push", c, wire(goodOfKind(impl.FrPush, 0, 1)))
		l, _, _ := impl.ReadFrames([]byte(o.out))
		if len(l) != 1 || l[0].Kind != impl.FrGoAway || l[0].Stream != 0 || l[0].Flags != 0 {
			t.Fatalf("%d: %x", last, o.out)
		}
		if told, code, ok := impl.GetGoAway(l[0].Body); told != last || code != impl.ErrProtocol || !ok || len(l[0].Body) != 8 {
			t.Errorf("%d: %d, %d is told", last, told, code)
		}
	}
}

func checkNoAnswer(t *testing.T, c impl.Conn, stream int, r impl.Resp) {
	t.Helper()
	if next, out, ok := impl.AnswerWith(c, stream, r); ok || len(out) != 0 || !sameConn(next, c) {
		t.Errorf("AnswerWith %d, %+v of (%s): (%s), %x, %v", stream, r, connTitle(c), connTitle(next), out, ok)
	}
}

// checkAnswer asks for one frame with these fields, that ends the stream, and that the stream is gone.
func checkAnswer(t *testing.T, c impl.Conn, stream int, r impl.Resp) impl.Conn {
	t.Helper()
	block, enc := impl.PutFields(c.Enc, respFieldsBy(r))
	want := c
	want.Enc = enc
	want.Strs = slices.DeleteFunc(slices.Clone(c.Strs), func(s impl.Str) bool { return s.Id == stream })
	next, out, ok := impl.AnswerWith(c, stream, r)
	if !ok || !sameConn(next, want) || string(out) != wire(wholeHead(stream, true, string(block))) || !impl.ConnOk(next) {
		t.Errorf("AnswerWith %d, %+v of (%s): (%s), %x, %v", stream, r, connTitle(c), connTitle(next), out, ok)
	}
	checkNoAnswer(t, next, stream, r)
	return next
}

func TestAnswerWith(t *testing.T) {
	c := busyConn()
	next, out, ok := impl.AnswerWith(c, 5, untold(404))
	if want := connOf(9, openStr(1, "xy")); !ok || !sameConn(next, want) || string(out) != headBytes(1, 1, 5, 5)+"\x8d" {
		t.Errorf("(%s), %x, %v", connTitle(next), out, ok)
	}
	for _, status := range []int{100, 200, 201, 204, 400, 404, 409, 422, 507, 599} {
		for _, off := range []int{-1, 0, 1, 24, topNumber} {
			checkAnswer(t, c, 5, impl.Resp{Status: status, Off: off})
		}
	}
	for _, r := range wrongResps {
		checkNoAnswer(t, c, 5, r)
	}
	for _, stream := range slices.Concat(greatNumbers, []int{-5, -1, 0, 1, 2, 3, 4, 6, 7, 9, 10, 11, 1<<32 + 5}) {
		checkNoAnswer(t, c, stream, untold(404))
		checkNoAnswer(t, impl.ConnNew(), stream, untold(404))
	}
	full := connOf(199, manyStrs(100)...)
	for _, s := range full.Strs {
		if s.State == impl.StHalfThere {
			checkAnswer(t, full, s.Id, telling(200, 5))
		} else {
			checkNoAnswer(t, full, s.Id, telling(200, 5))
		}
	}
}

func TestAnswerWithOfOtherConns(t *testing.T) {
	good := 0
	for _, x := range changedConns() {
		for _, s := range x.conn.Strs {
			if x.ok && s.State == impl.StHalfThere && good < 400 {
				checkAnswer(t, x.conn, s.Id, telling(204, 7))
				good++
			} else if !x.ok || s.State != impl.StHalfThere {
				checkNoAnswer(t, x.conn, s.Id, telling(204, 7))
			}
		}
		checkNoAnswer(t, x.conn, 3, telling(204, 7))
		checkNoAnswer(t, x.conn, 5, telling(99, 7))
	}
	for code := 1; code <= 20; code++ {
		dead := ended(busyConn(), code)
		checkNoAnswer(t, dead, 5, untold(404))
		// Not ConnOk, as it has streams.
		dead.Strs = busyConn().Strs
		checkNoAnswer(t, dead, 5, untold(404))
	}
}

// A connection goes on behind an answer, ahead of the preface's end and while a block has begun, too.
func TestAnAnswerBetweenBytes(t *testing.T) {
	c := busyConn()
	b := wire(headFrame(11, 1, askBlock[:5]), moreFrame(11, impl.FlagHead, askBlock[5:]), dataFrame(1, 1, "z"), pingFrame(0))
	want := docHear(connOf(9, openStr(1, "xy")), b)
	_, enc := impl.PutFields(impl.Table{Max: 4096}, respFieldsBy(telling(204, 7)))
	want.conn.Enc = enc
	for cut := range len(b) {
		ahead := hearAll(t, c, []byte(b[:cut]))
		ahead.conn = checkAnswer(t, ahead.conn, 5, telling(204, 7))
		rest := hearAll(t, ahead.conn, []byte(b[cut:]))
		got := outcome{rest.conn, append(ahead.calls, rest.calls...), ahead.out + rest.out}
		if !got.same(want) {
			t.Errorf("answered behind %d bytes: %v, not %v", cut, got, want)
		}
	}
}

// A reader reads what is answered, with one table.
type reader struct {
	table impl.Table
}

func (x *reader) reads(t *testing.T, out []byte) (int, impl.Resp) {
	t.Helper()
	l, place, code := impl.ReadFrames(out)
	if len(l) != 1 || place != len(out) || code != impl.FrameMore || l[0].Kind != impl.FrHeaders || l[0].Flags != impl.FlagHead|impl.FlagEnd {
		t.Fatalf("%x is answered", out)
	}
	fields, table, code := impl.GetFields(x.table, 4096, l[0].Body)
	r, ok := impl.RespOf(fields)
	if code != impl.BlockGood || !ok {
		t.Fatalf("%q is answered, %d", fields, code)
	}
	x.table = table
	return l[0].Stream, r
}

func TestAnswersOneBehindTheOther(t *testing.T) {
	x := reader{impl.Table{Max: 4096}}
	c := connOf(199, manyStrs(100)...)
	c.Enc = impl.Table{Max: 4096}
	d := drawer(1616)
	count := 0
	for _, s := range slices.Backward(c.Strs) {
		if s.State != impl.StHalfThere {
			continue
		}
		r := drawn(&d, d.resp(), untold(404), telling(204, 24), telling(204, 48))
		next, out, ok := impl.AnswerWith(c, s.Id, r)
		stream, got := x.reads(t, out)
		if !ok || stream != s.Id || got != r || !sameTable(x.table, next.Enc) {
			t.Fatalf("%d, %+v is read as %d, %+v", s.Id, r, stream, got)
		}
		c = next
		count++
	}
	if count != 33 || len(c.Strs) != 67 {
		t.Errorf("%d answers, %d streams are left", count, len(c.Strs))
	}
	// The second of two alike is shorter: it goes by numbers.
	two := connOf(9, endedStr(1, ""), endedStr(3, ""))
	next, one, _ := impl.AnswerWith(two, 1, telling(204, 777))
	_, other, _ := impl.AnswerWith(next, 3, telling(204, 777))
	if len(other) != 11 || len(one) <= len(other) {
		t.Errorf("%x, then %x", one, other)
	}
}

// docAsk is what AskWith must answer.
func docAsk(x impl.Table, stream int, r impl.Req, body string, taken int) (string, impl.Table) {
	block, behind := impl.PutFields(x, impl.FieldsOf(r))
	var l []impl.Frame
	for _, piece := range partsOf(string(block), taken) {
		l = append(l, moreFrame(stream, 0, piece))
	}
	l[0].Kind = impl.FrHeaders
	if body == "" {
		l[0].Flags = impl.FlagEnd
	}
	l[len(l)-1].Flags |= impl.FlagHead
	if body != "" {
		for _, piece := range partsOf(body, taken) {
			l = append(l, dataFrame(stream, 0, piece))
		}
		l[len(l)-1].Flags = impl.FlagEnd
	}
	return wire(l...), behind
}

func checkAsk(t *testing.T, x impl.Table, stream int, r impl.Req, body string, most int, taken int) {
	t.Helper()
	want, behind := docAsk(x, stream, r, body, taken)
	got, table := impl.AskWith(x, stream, r, []byte(body), most)
	if string(got) != want || !sameTable(table, behind) {
		t.Errorf("AskWith of stream %d, %+v, %d bytes by %d: %d bytes %.60x, not %d %.60x", stream, r, len(body), most, len(got), got, len(want), want)
	}
}

func checkNoAsk(t *testing.T, x impl.Table, stream int, r impl.Req, body string, most int) {
	t.Helper()
	if got, table := impl.AskWith(x, stream, r, []byte(body), most); len(got) != 0 || !sameTable(table, x) {
		t.Errorf("AskWith of stream %d, %+v, %d bytes by %d: %.60x, %v", stream, r, len(body), most, got, table)
	}
}

func TestAskWithKnownBytes(t *testing.T) {
	got, table := impl.AskWith(impl.Table{Max: 4096}, 3, askReq("a"), nil, 1000)
	want, behind := impl.PutFields(impl.Table{Max: 4096}, fieldsBy(":method", "HEAD", ":scheme", "https", ":path", "/up/a"))
	if string(got) != headBytes(len(want), 1, 5, 3)+string(want) || !sameTable(table, behind) {
		t.Errorf("%x, not %x behind a head", got, want)
	}
	// By numbers alone.
	x := impl.Table{Max: 4096, Fields: fieldsBy(":method", "HEAD", ":path", "/up/a")}
	for _, y := range []struct {
		body string
		most int
		want string
	}{
		{"", 1000, headBytes(3, 1, 5, 1) + "\xbe\x87\xbf"},
		{"", 3, headBytes(3, 1, 5, 1) + "\xbe\x87\xbf"},
		{"", 2, headBytes(2, 1, 1, 1) + "\xbe\x87" + headBytes(1, 9, 4, 1) + "\xbf"},
		{"z", 2, headBytes(2, 1, 0, 1) + "\xbe\x87" + headBytes(1, 9, 4, 1) + "\xbf" + headBytes(1, 0, 1, 1) + "z"},
		{"zy", 2, headBytes(2, 1, 0, 1) + "\xbe\x87" + headBytes(1, 9, 4, 1) + "\xbf" + headBytes(2, 0, 1, 1) + "zy"},
		{"zyx", 2, headBytes(2, 1, 0, 1) + "\xbe\x87" + headBytes(1, 9, 4, 1) + "\xbf" + headBytes(2, 0, 0, 1) + "zy" + headBytes(1, 0, 1, 1) + "x"},
		{"zyx", 3, headBytes(3, 1, 4, 1) + "\xbe\x87\xbf" + headBytes(3, 0, 1, 1) + "zyx"},
		{"zy", 1, headBytes(1, 1, 0, 1) + "\xbe" + headBytes(1, 9, 0, 1) + "\x87" + headBytes(1, 9, 4, 1) + "\xbf" + headBytes(1, 0, 0, 1) + "z" + headBytes(1, 0, 1, 1) + "y"},
	} {
		got, table = impl.AskWith(x, 1, askReq("a"), []byte(y.body), y.most)
		if string(got) != y.want || !sameTable(table, x) {
			t.Errorf("%q by %d: %x, not %x", y.body, y.most, got, y.want)
		}
	}
}

func TestAskWith(t *testing.T) {
	tables := []impl.Table{{Max: 4096}, {}, {Max: 60}, tableOf(4096, 40, "ab"), {Max: 4096, Fields: fieldsBy(":method", "PATCH")}}
	for _, edge := range mostEdges {
		for _, times := range []int{0, 1, 2, 3, 5} {
			for _, off := range []int{-1, 0, 1} {
				size := times*edge.taken + off
				if size < 0 {
					continue
				}
				for i, r := range []impl.Req{sendReq("a", 3), makeReq("abcdefgh", topNumber), askReq("b"), doneReq("c", topWord)} {
					checkAsk(t, tables[(i+times)%len(tables)], []int{1, 2, 3, topStream}[i], r, longSector(size), edge.n, edge.taken)
				}
			}
		}
	}
	for _, x := range tables {
		for _, size := range []int{0, 1, 2, 999, 1000, 1001, 2000, 2001, 5000} {
			for _, r := range rightReqs() {
				checkAsk(t, x, 7, r, longSector(size), 1000, 1000)
				checkAsk(t, x, 7, r, longSector(size), 6, 6)
			}
		}
	}
}

func TestAskWithWhatIsWrong(t *testing.T) {
	x := impl.Table{Max: 4096, Fields: fieldsBy(":method", "HEAD")}
	for _, body := range []string{"", "data"} {
		for _, most := range []int{-1, 0, 1, 1000, 1001} {
			for _, stream := range slices.Concat(greatNumbers, []int{-1, -3, 0, 1<<32 + 1}) {
				if stream < 1 || stream > topStream {
					checkNoAsk(t, x, stream, askReq("a"), body, most)
				}
			}
			for _, stream := range []int{1, 2, 3, topStream - 1, topStream} {
				checkAsk(t, x, stream, askReq("a"), body, most, min(max(most, 1), 1000))
			}
			for _, r := range wrongReqs() {
				checkNoAsk(t, x, 1, r, body, most)
			}
			for _, wrong := range wrongTables() {
				checkNoAsk(t, wrong, 1, askReq("a"), body, most)
			}
		}
	}
}

// asked draws a request with a body that is not too long, and how it is parted.
func (d *drawer) askedWith() (impl.Req, []byte, int) {
	size := drawn(d, 0, 0, 1, 24, d.draw(100), d.draw(2001), 1999, 2000)
	return d.req(), d.bytes(size), drawn(d, -1, 0, 1, 2, 7, 24, 1+d.draw(100), 1+d.draw(1000), 999, 1000, 1001)
}

// Promise 16: a request comes to one call that has it whole, however its bytes are parted, and its answer comes back.
func TestRequestsAreHeardAndAnswered(t *testing.T) {
	d := drawer(16)
	for round := range 60 {
		c, asks, x := impl.ConnNew(), impl.Table{Max: 4096}, reader{impl.Table{Max: 4096}}
		o := hearAll(t, c, d.parts(string(impl.Preface()))...)
		if !o.same(outcome{conn: connOf(0), out: settingsAck}) {
			t.Fatalf("round %d: Preface: %v", round, o)
		}
		c = o.conn
		stream := -1
		for range 20 {
			stream += 2 + 2*d.draw(3)
			r, body, most := d.askedWith()
			b, table := impl.AskWith(asks, stream, r, body, most)
			want := []impl.Call{{Stream: stream, R: r, Body: body}}
			o = hearAll(t, c, d.parts(string(b))...)
			if !slices.EqualFunc(o.calls, want, sameCall) || o.out != "" || o.conn.Dead != 0 || len(o.conn.Strs) != len(c.Strs)+1 || !sameTable(o.conn.Dec, table) {
				t.Fatalf("round %d: %+v, %d bytes by %d on %d: %v", round, r, len(body), most, stream, o)
			}
			if whole := hearAll(t, c, b); !whole.same(o) {
				t.Fatalf("round %d: %+v, %d bytes by %d on %d, whole: %v", round, r, len(body), most, stream, whole)
			}
			asks, c = table, o.conn
			for len(c.Strs) > 0 && d.draw(3) > 0 {
				at, resp := c.Strs[d.draw(len(c.Strs))].Id, d.resp()
				next, out, ok := impl.AnswerWith(c, at, resp)
				told, got := x.reads(t, out)
				if !ok || told != at || got != resp || len(next.Strs) != len(c.Strs)-1 {
					t.Fatalf("round %d: %d is answered with %+v, but %d, %+v is read", round, at, resp, told, got)
				}
				c = next
			}
		}
	}
}

// Requests one behind the other in the same bytes, their data by turns.
func TestManyRequestsAtOnce(t *testing.T) {
	d := drawer(161)
	for round := range 20 {
		asks := impl.Table{Max: 4096}
		var heads, left [][]impl.Frame
		want := map[int]impl.Call{}
		for i := range 1 + d.draw(20) {
			stream := 2*i + 1
			r, body, most := d.askedWith()
			b, table := impl.AskWith(asks, stream, r, body, max(20, most))
			asks = table
			l, _, _ := impl.ReadFrames(b)
			at := slices.IndexFunc(l, func(f impl.Frame) bool { return f.Kind == impl.FrData })
			if at < 0 {
				at = len(l)
			}
			heads, left = append(heads, l[:at]), append(left, l[at:])
			want[stream] = impl.Call{Stream: stream, R: r, Body: body}
		}
		b := string(impl.Preface())
		begunCount := 0
		for begunCount < len(heads) || slices.ContainsFunc(left, func(l []impl.Frame) bool { return len(l) > 0 }) {
			at := d.draw(len(heads))
			if begunCount < len(heads) && d.draw(2) == 0 {
				b += wire(heads[begunCount]...)
				begunCount++
			} else if at < begunCount && len(left[at]) > 0 {
				b += wire(left[at][0])
				left[at] = left[at][1:]
			}
		}
		o := hearAll(t, impl.ConnNew(), d.parts(b)...)
		for _, call := range o.calls {
			if !sameCall(call, want[call.Stream]) {
				t.Fatalf("round %d: %s", round, callsTitle([]impl.Call{call, want[call.Stream]}))
			}
		}
		if len(o.calls) != len(heads) || len(o.conn.Strs) != len(heads) || o.out != settingsAck || o.conn.Dead != 0 {
			t.Fatalf("round %d: %d requests: %v", round, len(heads), o)
		}
		if whole := checkDoc(t, "many requests", impl.ConnNew(), b); !whole.same(o) {
			t.Fatalf("round %d: another outcome in one piece", round)
		}
	}
}

// wildFrames are by chance: mostly they end all.
func (d *drawer) wildFrames(c impl.Conn) []impl.Frame {
	stream := drawn(d, 1, 1+d.draw(12), c.Last, c.Last+1, c.Last+2)
	flags := drawn(d, 0, 1, 4, 5, 8, d.draw(256))
	switch d.draw(4) {
	case 0:
		return []impl.Frame{d.frame()}
	case 1:
		return []impl.Frame{goodOfKind(d.draw(12), flags, stream)}
	case 2:
		return []impl.Frame{dataFrame(stream, flags, string(d.bytes(d.draw(1001))))}
	}
	return []impl.Frame{headFrame(stream, flags, drawn(d, askBlock, wrongBlock, string(d.bytes(d.draw(5))))), moreFrame(stream, impl.FlagHead, "")}
}

// tameFrames may come now, as far as the connection tells.
func (d *drawer) tameFrames(c impl.Conn) []impl.Frame {
	if open := slices.DeleteFunc(slices.Clone(c.Strs), func(s impl.Str) bool { return s.State != impl.StOpen }); len(open) > 0 && d.draw(3) > 0 {
		id := open[d.draw(len(open))].Id
		switch d.draw(6) {
		case 0:
			return []impl.Frame{goodOfKind(impl.FrReset, d.draw(256), id)}
		case 1:
			return []impl.Frame{wholeHead(id, true, "\x40\x01n\x01v")}
		case 2:
			return []impl.Frame{dataFrame(id, impl.FlagPad, string(impl.Pad(d.bytes(d.draw(50)), d.draw(60))))}
		}
		size := drawn(d, 0, 1, d.draw(300), d.draw(1001))
		return []impl.Frame{dataFrame(id, drawn(d, 0, 0, 0, impl.FlagEnd), string(d.bytes(size)))}
	}
	switch d.draw(8) {
	case 0:
		return []impl.Frame{pingFrame(d.draw(256))}
	case 1:
		return []impl.Frame{goodOfKind(impl.FrSettings, d.draw(256), 0)}
	case 2:
		return []impl.Frame{goodOfKind(drawn(d, impl.FrPriority, 10, 77, impl.FrGoAway), d.draw(256), 1+d.draw(20))}
	}
	block := drawn(d, askBlock, sendBlock, sendBlock, sendBlock, formBlock, methodBlock, pathBlock, numberBlock, "\x42\x04HEAD\x87\x44\x05/up/a", sizeTold(d.draw(200))+askBlock)
	return impl.Part(min((c.Last+1)|1, topStream), d.draw(3) == 0, []byte(block), 1+d.draw(40))
}

// heardBytes draws bytes that a connection may hear: frames, whole or cut, and now and then a wrong byte.
func (d *drawer) heardBytes(c impl.Conn) string {
	b := ""
	if c.Pre < 24 && d.draw(40) > 0 {
		b = docPreface[c.Pre:]
	}
	for range 1 + d.draw(6) {
		// What came so far is heard, so that what comes next may be of it.
		if now := docHear(c, b).conn; d.draw(60) == 0 {
			b += wire(d.wildFrames(now)...)
		} else {
			b += wire(d.tameFrames(now)...)
		}
	}
	if at := d.draw(len(b)); d.draw(80) == 0 {
		b = b[:at] + string([]byte{byte(d.draw(256))}) + b[at+1:]
	}
	if d.draw(80) == 0 {
		b = b[:d.draw(len(b))]
	}
	return b
}

// Promise 16: however bytes are parted, the same calls come, the same answers and the same connection.
func TestHoweverBytesAreParted(t *testing.T) {
	d := drawer(1600)
	seen := map[int]int{}
	steps := 0
	for round := range 400 {
		c := impl.ConnNew()
		for range 20 {
			b := d.heardBytes(c)
			want := docHear(c, b)
			for how, pieces := range [][][]byte{{[]byte(b)}, byteByByte(b), d.parts(b), d.parts(b)} {
				if how == 1 && round%10 != 0 {
					continue
				}
				if got := hearAll(t, c, pieces...); !got.same(want) {
					t.Fatalf("round %d, way %d: %.80x to (%s): %v, not %v", round, how, b, connTitle(c), got, want)
				}
			}
			steps++
			c = want.conn
			for _, s := range c.Strs {
				if s.State == impl.StHalfThere && d.draw(4) == 0 {
					c = checkAnswer(t, c, s.Id, d.resp())
				}
			}
			if c.Dead != 0 {
				break
			}
		}
		seen[c.Dead]++
	}
	for _, code := range []int{0, 1, 5, 6, 9, 11} {
		if seen[code] == 0 {
			t.Errorf("no round ends with %d: %v", code, seen)
		}
	}
	if steps < 3000 {
		t.Errorf("%d steps alone", steps)
	}
}

// Bytes by chance, behind the preface and without it.
func TestAnyBytesAreHeard(t *testing.T) {
	d := drawer(16000)
	for round := range 3000 {
		c := drawn(&d, impl.ConnNew(), connOf(0), busyConn(), connOf(199, manyStrs(100)...))
		b := d.bytes(d.draw(200))
		// Heads whose frames are short enough, so that some come to be whole.
		for at := 0; at+9 < len(b); at += 9 + int(b[at+2]) {
			b[at], b[at+1], b[at+2] = 0, 0, byte(d.draw(20))
			b[at+3], b[at+4] = byte(d.draw(11)), byte(drawn(&d, 0, 1, 4, 5, d.draw(256)))
			b[at+5], b[at+6], b[at+7], b[at+8] = 0, 0, 0, byte(d.draw(14))
			if round%5 == 0 {
				break
			}
		}
		want := docHear(c, string(b))
		for _, pieces := range [][][]byte{{b}, byteByByte(string(b)), d.parts(string(b))} {
			if got := hearAll(t, c, pieces...); !got.same(want) {
				t.Fatalf("round %d: %.80x to (%s): %v, not %v", round, b, connTitle(c), got, want)
			}
		}
	}
}

// Each pair of places at which the bytes of some requests may be cut.
func TestEachCutOfSomeRequests(t *testing.T) {
	ask, x := impl.AskWith(impl.Table{Max: 4096}, 1, sendReq("a", 3), []byte("hello"), 2)
	more, _ := impl.AskWith(x, 3, askReq("a"), nil, 1000)
	b := string(impl.Preface()) + string(ask) + string(more) + wire(pingFrame(0), dataFrame(3, 0, "late"), pingFrame(0))
	want := docHear(impl.ConnNew(), b)
	if len(want.calls) != 2 || want.conn.Dead != impl.ErrClosed || want.out != settingsAck+pingAck+goAway(3, 5) || string(want.calls[0].Body) != "hello" {
		t.Fatalf("%v", want)
	}
	for one := range len(b) + 1 {
		for two := one; two <= len(b); two += 1 + two%3 {
			if got := hearAll(t, impl.ConnNew(), []byte(b[:one]), []byte(b[one:two]), []byte(b[two:])); !got.same(want) {
				t.Fatalf("cut at %d and %d: %v", one, two, got)
			}
		}
	}
}

// A roomyConn is a connection with spare room behind each of its lists, and all of the memory.
type roomyConn struct {
	conn     impl.Conn
	bytes    [][]byte
	dec, enc []impl.Field
	strs     []impl.Str
}

func roomyConnOf(c impl.Conn, spare int) roomyConn {
	x := roomyConn{conn: c}
	room := func(b []byte) []byte {
		part, all := roomy(string(b), spare)
		x.bytes = append(x.bytes, all)
		return part
	}
	x.conn.In, x.conn.G.Buf = room(c.In), room(c.G.Buf)
	x.conn.Dec.Fields, x.dec = roomyFields(c.Dec.Fields, spare)
	x.conn.Enc.Fields, x.enc = roomyFields(c.Enc.Fields, spare)
	for _, s := range c.Strs {
		s.Body = room(s.Body)
		x.strs = append(x.strs, s)
	}
	for range spare {
		x.strs = append(x.strs, impl.Str{Id: 777, State: 1})
	}
	x.conn.Strs = x.strs[:len(c.Strs)]
	return x
}

func (x roomyConn) sameAs(y roomyConn) bool {
	return sameConn(x.conn, y.conn) && slices.EqualFunc(x.bytes, y.bytes, bytes.Equal) && slices.Equal(x.dec, y.dec) && slices.Equal(x.enc, y.enc) && slices.EqualFunc(x.strs, y.strs, sameStr)
}

func (x roomyConn) turn() {
	for _, b := range x.bytes {
		turnAll(b)
	}
	turnFields(x.dec)
	turnFields(x.enc)
	turnStrs(x.strs)
}

func turnStrs(l []impl.Str) {
	l = l[:cap(l)]
	for i := range l {
		l[i].Id += 2
		l[i].R.N++
	}
}

func turnCalls(l []impl.Call) {
	l = l[:cap(l)]
	for i := range l {
		l[i].Stream += 2
		l[i].R.N++
	}
}

// A spoken is what a call answers: a connection, and what HearBytes or AnswerWith tell beside it.
type spoken struct {
	conn  impl.Conn
	calls []impl.Call
	out   []byte
	ok    bool
}

func (s spoken) same(r spoken) bool {
	return sameConn(s.conn, r.conn) && slices.EqualFunc(s.calls, r.calls, sameCall) && bytes.Equal(s.out, r.out) && s.ok == r.ok
}

func (s spoken) clone() spoken {
	s.conn, s.out = roomyConnOf(s.conn, 0).conn, slices.Clone(s.out)
	s.calls = slices.Clone(s.calls)
	for i := range s.calls {
		s.calls[i].Body = slices.Clone(s.calls[i].Body)
	}
	return s
}

// parts change each list of an answer by itself, its spare room, too.
func (s spoken) parts() []func() {
	l := []func(){
		func() { turnAll(s.conn.In) }, func() { turnAll(s.conn.G.Buf) }, func() { turnFields(s.conn.Dec.Fields) }, func() { turnFields(s.conn.Enc.Fields) },
		func() { turnStrs(s.conn.Strs) }, func() { turnCalls(s.calls) }, func() { turnAll(s.out) },
	}
	for _, x := range s.conn.Strs {
		l = append(l, func() { turnAll(x.Body) })
	}
	for _, x := range s.calls {
		l = append(l, func() { turnAll(x.Body) })
	}
	return l
}

func (s spoken) turn() {
	for _, turn := range s.parts() {
		turn()
	}
}

// grow appends to each list of an answer, which must be seen in none of them.
func (s spoken) grow() {
	more := strings.Repeat("more", 300)
	_, _, _ = append(s.conn.In, more...), append(s.conn.G.Buf, more...), append(s.out, more...)
	_, _ = append(s.conn.Dec.Fields, spareField), append(s.conn.Enc.Fields, spareField)
	_, _ = append(s.conn.Strs, openStr(777, "")), append(s.calls, impl.Call{Stream: 777})
	for _, x := range s.conn.Strs {
		_ = append(x.Body, more...)
	}
	for _, x := range s.calls {
		_ = append(x.Body, more...)
	}
}

// talks are the calls that answer a connection.
func talks() map[string]func(impl.Conn) spoken {
	l := map[string]func(impl.Conn) spoken{}
	hears := map[string]string{
		"nothing": "", "part of the preface": docPreface[:7], "the preface": docPreface, "all": somethingToHear, "no preface": somethingToHear[24:], "a wrong byte": "\xff",
		"a beginning": wire(pingFrame(0))[:12], "data": wire(dataFrame(1, 0, "more")), "its end": wire(dataFrame(1, 1, "more")), "its end by fields": wire(wholeHead(1, true, "\x40\x01n\x01v")),
		"two beginnings": wire(wholeHead(201, true, "\x42\x04HEAD\x87\x44\x05/up/a"), dataFrame(1, 0, "d"), headFrame(203, 0, askBlock)) + "\x00\x00\x07",
		"no request":     wire(wholeHead(201, true, formBlock)), "a reset": wire(goodOfKind(impl.FrReset, 0, 1)), "a fault": wire(pingFrame(0), dataFrame(5, 0, "")),
		"the rest of a block": wire(moreFrame(11, impl.FlagHead, askBlock), pingFrame(0)), "more of a block": wire(moreFrame(11, 0, askBlock)), "the rest of a frame": "\x00\x00\x00\x00\x00\x0112345" + wire(pingFrame(0)),
	}
	for title, b := range hears {
		l["HearBytes of "+title] = func(c impl.Conn) spoken {
			next, calls, out := impl.HearBytes(c, []byte(b))
			return spoken{next, calls, out, false}
		}
	}
	for _, stream := range []int{0, 1, 5, 17} {
		for _, r := range []impl.Resp{telling(204, 24), untold(404), {}} {
			l[fmt.Sprintf("AnswerWith %d, %v", stream, r)] = func(c impl.Conn) spoken {
				next, out, ok := impl.AnswerWith(c, stream, r)
				return spoken{next, nil, out, ok}
			}
		}
	}
	return l
}

// talkers are connections of many kinds, good and wrong.
func talkers() []impl.Conn {
	full := busyConn()
	full.Dec, full.Enc = tableOf(4096, 50, "abc"), tableOf(4096, 60, "def")
	full.Strs = []impl.Str{openStr(1, "the first"), openStr(3, ""), endedStr(5, strings.Repeat("b", 2000)), openStr(9, strings.Repeat("c", 1999))}
	within, cut, begins := full, full, impl.ConnNew()
	within.G = begun(11, true, "\x00\x01x\x01y")
	cut.In = []byte(wire(impl.Frame{Kind: 4, Body: make([]byte, 6)})[:9])
	begins.Pre = 7
	l := []impl.Conn{impl.ConnNew(), connOf(0), begins, busyConn(), full, within, cut, connOf(199, manyStrs(100)...), connOf(199, manyStrs(99)...), ended(full, 5)}
	for i, x := range changedConns() {
		if i%17 == 0 {
			l = append(l, x.conn)
		}
	}
	return l
}

func checkTalkMemory(t *testing.T, title string, c impl.Conn, spare int, call func(impl.Conn) spoken) {
	t.Helper()
	title = fmt.Sprintf("%s by (%s) with %d spare", title, connTitle(c), spare)
	argument := func() roomyConn { return roomyConnOf(c, spare) }
	talk := func(x roomyConn) spoken {
		impl.ConnOk(x.conn)
		return call(x.conn)
	}
	checkMemory(t, title, argument, talk, call(roomyConnOf(c, 0).conn).clone())
}

func TestMemoryOfConnections(t *testing.T) {
	for _, c := range talkers() {
		for title, call := range talks() {
			for _, spare := range []int{0, 1, 30} {
				checkTalkMemory(t, title, c, spare, call)
			}
		}
	}
}

// Each part of an answer by itself: the others are as they were.
func TestPartsOfAConnectionAreApart(t *testing.T) {
	for _, c := range talkers() {
		for title, call := range talks() {
			want := call(c).clone()
			for at := range min(30, len(want.parts())) {
				got, apart := call(roomyConnOf(c, 3).conn), want.clone()
				got.parts()[at]()
				apart.parts()[at]()
				if !got.same(apart) {
					t.Fatalf("%s by (%s): the part %d of the answer shares memory with another", title, connTitle(c), at)
				}
			}
		}
	}
}

// What is heard is neither written nor kept, and what lies behind it is not read.
func TestMemoryOfWhatIsHeard(t *testing.T) {
	rest := wire(pingFrame(0), wholeHead(11, true, askBlock))
	for _, c := range talkers() {
		for _, b := range []string{"", docPreface, somethingToHear, somethingToHear[24:], wire(dataFrame(1, 1, "more")), wire(headFrame(11, 1, "abc")), wire(pingFrame(0)), wire(pingFrame(0))[:10], rest} {
			for _, behind := range []string{"", "x", rest} {
				all := []byte(b + behind)
				kept := slices.Clone(all)
				want := hearAll(t, c, []byte(b))
				next, calls, out := impl.HearBytes(c, all[:len(b)])
				got := spoken{next, calls, out, false}
				if !slices.Equal(all, kept) || !got.same(spoken{want.conn, want.calls, []byte(want.out), false}) {
					t.Fatalf("%.30x by (%s), %.10x behind it: %v", b, connTitle(c), behind, got)
				}
				turnAll(all)
				turned := slices.Clone(all)
				if !got.same(spoken{want.conn, want.calls, []byte(want.out), false}) {
					t.Fatalf("%.30x by (%s) is kept", b, connTitle(c))
				}
				got.turn()
				if !slices.Equal(all, turned) {
					t.Fatalf("%.30x by (%s) is shared", b, connTitle(c))
				}
			}
		}
	}
}

func TestMemoryOfAskWith(t *testing.T) {
	for _, x := range slices.Concat(wrongTables(), []impl.Table{{}, {Max: 4096}, tableOf(200, 40, "abc"), tableOf(4096, 40, "abc")}) {
		for _, spare := range []int{0, 1, 30} {
			for _, r := range []impl.Req{sendReq("a", 3), askReq("b"), {}} {
				for _, size := range []int{0, 1, 24, 2001} {
					title := fmt.Sprintf("AskWith of %d fields, %+v, %d bytes, %d spare", len(x.Fields), r, size, spare)
					checkTableMemory(t, title, x, spare, func(y impl.Table) impl.Table {
						_, next := impl.AskWith(y, 1, r, []byte(longSector(size)), 7)
						return next
					})
					checkBytesMemory(t, title, longSector(size), spare, func(b []byte) []byte {
						out, _ := impl.AskWith(x, 1, r, b, 7)
						return out
					})
				}
			}
		}
	}
}

// No call keeps anything: what is done to one answer is not seen in the next.
func TestConnectionsAnswerAlikeAgain(t *testing.T) {
	for _, c := range talkers() {
		for title, call := range talks() {
			one, two := call(c), call(c)
			one.turn()
			call(ended(c, 3)).turn()
			if three := call(c); !two.same(three) {
				t.Fatalf("%s by (%s) hangs on the call ahead", title, connTitle(c))
			}
		}
	}
	spoken{conn: impl.ConnNew()}.turn()
	if c := impl.ConnNew(); !sameConn(c, impl.Conn{Dec: impl.Table{Max: 4096}, Enc: impl.Table{Max: 4096}}) {
		t.Errorf("ConnNew is (%s)", connTitle(c))
	}
}
