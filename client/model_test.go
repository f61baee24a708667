package client_test

import (
	"math"
	"slices"
	"strconv"
	"strings"

	"herald/api"
	"herald/conn"
	"herald/field"
	"herald/lists"
	"herald/origin"
	"herald/vary"
)

// The document's own numbers.
const (
	argError    = 1
	longError   = 3
	noneError   = 5
	fullError   = 6
	twiceError  = 7
	listError   = 51
	fieldError  = 130
	headError   = 131
	bodyError   = 140
	originError = 150
	deadError   = 210

	protocol = 1
	refused  = 7
	cancel   = 8
	calm     = 11

	mostBody    = 65536
	mostList    = 65536
	mostWait    = 256
	mostPending = 64
	mostEntries = 64
	mostOrigins = 16
	lastTick    = 1 << 60

	idleState, reserved, halfRemote, closed = 0, 2, 5, 6 // of a stream

	top      = 2147483647
	least    = math.MinInt64
	greatest = math.MaxInt64
)

// standard is the default set.
func standard() api.Set {
	return api.Set{Table: 4096, Push: 1, Streams: top, Window: 65535, Frame: 16384, List: top}
}

// The model is a client by the chapter's words. Of the layers below it takes a conn
// for bytes, events and windows, field for what lists there are, and vary for what
// answers what; what responses, promises, entries and units are it works out by itself,
// each time anew. It takes nothing away: what is over it only marks.
type model struct {
	c       *conn.Conn
	conf    api.Conf
	origins []api.Origin
	now     int64

	requests []*mRequest // by number
	promises []*mPromise // by stream
	entries  []*mEntry   // by age
	isOver   bool
	answers  []api.Answer

	whys map[string]int // what became of promises
}

type mRequest struct {
	asked      api.Request
	list       []api.Field
	stream     int64 // 0: it waits
	sent       int
	isAnswered bool
	came       mCame
}

type mPromise struct {
	asked        api.Request
	stream, tick int64
	isOver       bool
	came         mCame
}

// mCame is all that came on a stream.
type mCame struct {
	heads  int
	fields []api.Field
	body   string
}

type mEntry struct {
	promised     api.Request
	response     api.Response
	stream, tick int64
	isGone       bool
}

func newModel(set api.Set, conf api.Conf, origins []string) (*model, api.Errno) {
	c, e := conn.New(true, set)
	if e != 0 {
		return nil, e
	}
	within := func(n, most int64) bool { return n >= 0 && n <= most }
	if !within(conf.Entries, mostEntries) || !within(conf.Bytes, lastTick) || !within(conf.Life, lastTick) || !within(conf.Pending, mostPending) {
		return nil, argError
	}
	m := &model{c: c, conf: conf, whys: map[string]int{}}
	for _, text := range origins {
		o, e := origin.Parse(text)
		if e != 0 {
			return nil, originError
		}
		m.origins = append(m.origins, o)
	}
	for i, o := range m.origins {
		if slices.Contains(m.origins[:i], o) {
			return nil, twiceError
		}
	}
	if len(m.origins) > mostOrigins {
		return nil, fullError
	}
	return m, 0
}

func (m *model) answer(q *mRequest, a api.Answer) {
	q.isAnswered = true
	a.Number = slices.Index(m.requests, q) + 1
	m.answers = append(m.answers, a)
}

func (m *model) ask(r api.Request) (int, api.Errno) {
	list, e := field.WriteRequest(r)
	if e != 0 {
		return 0, e
	}
	n, is, right := lengthIn(list)
	switch {
	case !right, is && n != len(r.Body), len(r.Body) > mostBody:
		return 0, bodyError
	case sizeOf(list) > mostList:
		return 0, listError
	case len(m.waiting()) == mostWait:
		return 0, fullError
	}
	r.Fields = slices.Clone(r.Fields)
	q := &mRequest{asked: r, list: list}
	m.requests = append(m.requests, q)
	x := m.entryFor(r)
	switch {
	case x != nil && (r.Method == "GET" || r.Method == "HEAD"):
		x.isGone = true
		m.answer(q, api.Answer{Cached: true, Stream: x.stream, Response: x.response})
	case m.isOver:
		m.answer(q, api.Answer{Code: refused})
	}
	return len(m.requests), 0
}

// lengthIn is what a list declares, whether it does, and whether it may be so.
func lengthIn(list []api.Field) (int, bool, bool) {
	var lengths []string
	for _, f := range list {
		if f.Name == "content-length" {
			lengths = append(lengths, f.Value)
		}
	}
	if len(lengths) == 0 {
		return 0, false, true
	}
	s := lengths[0]
	n, e := strconv.ParseInt(s, 10, 64)
	return int(n), true, len(lengths) == 1 && e == nil && strings.Trim(s, "0123456789") == "" && len(s) <= 10 && n <= top
}

func sizeOf(list []api.Field) int64 {
	n := 0
	for _, f := range list {
		n += 32 + len(f.Name+f.Value)
	}
	return int64(n)
}

// entryFor is the oldest entry that answers.
func (m *model) entryFor(r api.Request) *mEntry {
	for _, x := range m.entries {
		names, _ := vary.Names(x.response)
		if !x.isGone && m.now <= x.tick+m.conf.Life && r.Body == "" && vary.Match(x.promised, r, names) {
			return x
		}
	}
	return nil
}

func (m *model) held() []*mEntry {
	return slices.DeleteFunc(slices.Clone(m.entries), func(x *mEntry) bool { return x.isGone })
}

func (m *model) heldBytes() int64 {
	var n int64
	for _, x := range m.held() {
		n += int64(len(x.response.Body)) + sizeOf(x.response.Fields)
	}
	return n
}

func (m *model) stores(p *mPromise, a api.Response) {
	size := int64(len(a.Body)) + sizeOf(a.Fields)
	if _, star := vary.Names(a); star || m.conf.Entries == 0 || size > m.conf.Bytes {
		m.whys["not kept"]++
		return
	}
	for int64(len(m.held()))+1 > m.conf.Entries || m.heldBytes()+size > m.conf.Bytes {
		m.held()[0].isGone = true
		m.whys["thrown out"]++
	}
	m.whys["kept"]++
	m.entries = append(m.entries, &mEntry{promised: p.asked, response: a, stream: p.stream, tick: m.now})
}

func (m *model) waiting() []*mRequest {
	return slices.DeleteFunc(slices.Clone(m.requests), func(q *mRequest) bool { return q.isAnswered || q.stream > 0 })
}

func (m *model) flying() []*mRequest {
	return slices.DeleteFunc(slices.Clone(m.requests), func(q *mRequest) bool { return q.isAnswered || q.stream == 0 })
}

func (m *model) pending() []*mPromise {
	return slices.DeleteFunc(slices.Clone(m.promises), func(p *mPromise) bool { return p.isOver })
}

// withBody are those of the requests under way whose bodies aren't sent whole.
func (m *model) withBody() []*mRequest {
	return slices.DeleteFunc(m.flying(), func(q *mRequest) bool { return q.sent == len(q.asked.Body) })
}

func (m *model) cancels(number int) api.Errno {
	if number < 1 || number > len(m.requests) || m.requests[number-1].isAnswered {
		return noneError
	}
	q := m.requests[number-1]
	if q.stream > 0 {
		m.c.Reset(q.stream, cancel)
	}
	m.answer(q, api.Answer{Code: cancel})
	return 0
}

func (m *model) ticks(now int64) api.Errno {
	if now < m.now || now > lastTick {
		return argError
	}
	m.now = now
	for _, p := range m.pending() {
		if now > p.tick+m.conf.Life {
			m.c.Reset(p.stream, cancel)
			p.isOver = true
			m.whys["promise expired"]++
		}
	}
	for _, x := range m.held() {
		if now > x.tick+m.conf.Life {
			x.isGone = true
			m.whys["entry expired"]++
		}
	}
	return 0
}

func (m *model) recv(chunk string) {
	m.c.Push(chunk)
	for {
		events, is := m.c.Next()
		if !is {
			return
		}
		for _, e := range events {
			m.takes(e)
		}
	}
}

func (m *model) takes(e api.Event) {
	switch e.Kind {
	case 1, 2:
		for _, q := range m.flying() {
			if q.stream == e.Stream {
				m.takesFor(e, &q.came, q.asked.Method)
			}
		}
		for _, p := range m.pending() {
			if p.stream == e.Stream {
				m.takesFor(e, &p.came, p.asked.Method)
			}
		}
	case 3:
		m.takesPromise(e.Promised, e.Fields)
	case 4:
		m.loses(e.Stream, e.Code)
	case 7:
		m.isOver = true
		for _, q := range m.requests {
			if !q.isAnswered && (q.stream == 0 || q.stream > e.Stream) {
				m.answer(q, api.Answer{Code: refused})
			}
		}
	case 8:
		m.isOver = true
		for _, q := range m.flying() {
			m.answer(q, api.Answer{Code: e.Code})
		}
		for _, q := range m.waiting() {
			m.answer(q, api.Answer{Code: refused})
		}
		for _, p := range m.pending() {
			p.isOver = true
		}
	}
}

// takesFor lays down what came, and looks at all of it from its beginning on.
func (m *model) takesFor(e api.Event, x *mCame, method string) {
	if e.Kind == 1 {
		x.heads++
		x.fields = e.Fields
	}
	isAhead := x.heads == 0
	x.body += e.Data
	a, wrong := field.ReadResponse(x.fields)
	n, isDeclared, right := lengthIn(x.fields)
	isBodiless := method == "HEAD" || a.Status == 204 || a.Status == 304
	code := int64(0)
	switch {
	case isAhead, x.heads > 1, wrong != 0, a.Status < 200, !right:
		code = protocol
	case len(x.body) > mostBody:
		code = calm
	case isBodiless && x.body != "":
		code = protocol
	case !isBodiless && isDeclared && (len(x.body) > n || e.End && len(x.body) < n):
		code = protocol
	}
	if code != 0 {
		m.c.Reset(e.Stream, code)
		m.loses(e.Stream, code)
		return
	}
	if e.End {
		a.Body = x.body
		m.finishes(e.Stream, a)
	}
}

func (m *model) finishes(stream int64, a api.Response) {
	for _, q := range m.flying() {
		if q.stream == stream {
			m.answer(q, api.Answer{Stream: stream, Response: a})
		}
	}
	for _, p := range m.pending() {
		if p.stream == stream {
			p.isOver = true
			m.stores(p, a)
		}
	}
}

func (m *model) loses(stream, code int64) {
	for _, q := range m.flying() {
		if q.stream == stream {
			m.answer(q, api.Answer{Code: code})
		}
	}
	for _, p := range m.pending() {
		if p.stream == stream {
			p.isOver = true
			m.whys["promise lost"]++
		}
	}
}

func (m *model) takesPromise(stream int64, list []api.Field) {
	r, e := field.ReadRequest(list)
	_, _, right := lengthIn(list)
	isLong := slices.ContainsFunc(list, func(f api.Field) bool { return f.Name == "content-length" && f.Value != "0" })
	why, code := "under way", int64(0)
	switch {
	case e != 0, !right:
		why, code = "promise malformed", protocol
	case r.Method != "GET" && r.Method != "HEAD":
		why, code = "promise of a method", protocol
	case isLong:
		why, code = "promise with a length", protocol
	case !m.isOurs(r.Scheme, r.Authority):
		why, code = "promise foreign", protocol
	case int64(len(m.pending())) >= m.conf.Pending:
		why, code = "promise too many", refused
	case m.entryFor(r) != nil:
		why, code = "promise held", cancel
	}
	m.whys[why]++
	if code != 0 {
		m.c.Reset(stream, code)
		return
	}
	m.promises = append(m.promises, &mPromise{asked: r, stream: stream, tick: m.now})
}

func (m *model) isOurs(scheme, authority string) bool {
	o, e := origin.Parse(scheme + "://" + authority)
	return e == 0 && o.Scheme == scheme && slices.Contains(m.origins, o)
}

// wouldOpen tells whether conn's Open has nothing against a request but its list.
func (m *model) wouldOpen() bool {
	return m.c.Met() && int64(m.c.Opened(true)) < m.c.Theirs().Streams && m.c.State(top) == idleState
}

// units are those that are ready: a request that waits, or has body left.
func (m *model) units() []*mRequest {
	var all []*mRequest
	if w := m.waiting(); m.wouldOpen() && len(w) > 0 {
		all = append(all, w[0])
	}
	for _, q := range m.withBody() {
		if m.c.Window(0) >= 1 && m.c.Window(q.stream) >= 1 {
			all = append(all, q)
		}
	}
	return all
}

func (m *model) step(pick int) string {
	text := m.c.Control()
	if m.wouldOpen() {
		for _, q := range m.waiting() {
			if sizeOf(q.list) <= m.c.Theirs().List {
				break
			}
			m.answer(q, api.Answer{Code: refused})
			m.whys["long list"]++
		}
	}
	units := m.units()
	n := len(units)
	if n == 0 {
		return text
	}
	q := units[(pick%n+n)%n]
	if q.stream == 0 {
		stream, more, e := m.c.Open(q.list, q.asked.Body == "")
		if e != 0 {
			panic("the model opens what may not be")
		}
		q.stream = stream
		return text + more
	}
	sent, more, e := m.c.Data(q.stream, q.asked.Body[q.sent:], true)
	if e != 0 {
		panic("the model sends DATA that may not be")
	}
	q.sent += sent
	return text + more
}

func (m *model) idle() bool {
	return !m.c.Waits() && len(m.withBody()) == 0 && len(m.waiting()) == 0
}

// listOf is a request's list.
func listOf(r api.Request) []api.Field {
	return lists.Joined(lists.Of(":method", r.Method, ":scheme", r.Scheme, ":authority", r.Authority, ":path", r.Path), r.Fields...)
}
