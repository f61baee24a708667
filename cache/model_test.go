package cache_test

import (
	"fmt"
	"math/big"
	"strings"

	"herald/api"
	"herald/lists"
	"herald/vary"
)

// The model forgets nothing: it keeps every tick that it was told, and everything
// that it kept with what became of it, and works out anew from these what is asked
// of it, in numbers that have no end.

const (
	argError = api.Errno(1)

	mostEntries = 64
	mostBound   = 1152921504606846976
	greatest    = 9223372036854775807
	least       = -9223372036854775808
)

// What became of what was kept.
const (
	there = iota
	given
	gone
)

type kept struct {
	promised api.Request
	response api.Response
	stream   int64
	arrival  *big.Int
	fate     int
}

type model struct {
	conf  api.Conf
	ticks []int64
	all   []*kept
}

func modelNew(c api.Conf) api.Errno {
	for _, n := range []int64{c.Bytes, c.Life, c.Pending} {
		if n < 0 || n > mostBound {
			return argError
		}
	}
	if c.Entries < 0 || c.Entries > mostEntries {
		return argError
	}
	return 0
}

// modelSize is the length of a text that has all that counts.
func modelSize(r api.Response) int64 {
	all := []string{r.Body}
	for _, f := range r.Fields {
		all = append(all, f.Name, f.Value, strings.Repeat(" ", 32))
	}
	return int64(len(strings.Join(all, "")))
}

func (m *model) clock() *big.Int {
	now := new(big.Int)
	for _, n := range m.ticks {
		if x := big.NewInt(n); x.Cmp(now) > 0 {
			now = x
		}
	}
	return now
}

func (m *model) isExpired(k *kept) bool {
	return new(big.Int).Sub(m.clock(), k.arrival).Cmp(big.NewInt(m.conf.Life)) > 0
}

// entries are those that are still there.
func (m *model) entries() []*kept {
	var l []*kept
	for _, k := range m.all {
		if k.fate == there {
			l = append(l, k)
		}
	}
	return l
}

func sizeOf(l []*kept) int64 {
	var sum int64
	for _, k := range l {
		sum += modelSize(k.response)
	}
	return sum
}

func (m *model) store(promised api.Request, r api.Response, stream, tick int64) (bool, []int64) {
	told := m.tick(tick)
	if _, star := vary.Names(r); star || m.conf.Entries == 0 || modelSize(r) > m.conf.Bytes {
		return false, told
	}
	for rest := m.entries(); len(rest)+1 > int(m.conf.Entries) || sizeOf(rest)+modelSize(r) > m.conf.Bytes; rest = rest[1:] {
		rest[0].fate = gone
		told = append(told, rest[0].stream)
	}
	m.all = append(m.all, &kept{promised: ownRequest(promised), response: ownResponse(r), stream: stream, arrival: m.clock()})
	return true, told
}

func (m *model) answers(k *kept, asked api.Request) bool {
	names, _ := vary.Names(k.response)
	return asked.Body == "" && !m.isExpired(k) && vary.Match(k.promised, asked, names)
}

// first is the oldest entry that answers; nil: none does.
func (m *model) first(asked api.Request) *kept {
	for _, k := range m.entries() {
		if m.answers(k, asked) {
			return k
		}
	}
	return nil
}

func (m *model) claim(asked api.Request, tick int64) (api.Response, int64, bool) {
	m.ticks = append(m.ticks, tick)
	k := m.first(asked)
	if k == nil {
		return api.Response{}, 0, false
	}
	k.fate = given
	return k.response, k.stream, true
}

func (m *model) holds(asked api.Request, tick int64) bool {
	m.ticks = append(m.ticks, tick)
	return m.first(asked) != nil
}

func (m *model) tick(now int64) []int64 {
	m.ticks = append(m.ticks, now)
	var told []int64
	for _, k := range m.entries() {
		if m.isExpired(k) {
			k.fate = gone
			told = append(told, k.stream)
		}
	}
	return told
}

// What the tests make their requests and responses of.

// getAt is a GET of a path, with fields out of names, each with its value behind it.
func getAt(path string, fields ...string) api.Request {
	return api.Request{Method: "GET", Scheme: "https", Authority: "a", Path: path, Fields: lists.Of(fields...)}
}

// getX is the request of the chapter's examples.
func getX(fields ...string) api.Request { return getAt("/x", fields...) }

func withBody(q api.Request, body string) api.Request {
	q.Body = body
	return q
}

// ok is a response with this body.
func ok(body string, fields ...string) api.Response {
	return api.Response{Status: 200, Fields: lists.Of(fields...), Body: body}
}

// sized is a response whose size is n.
func sized(n int) api.Response { return ok(strings.Repeat("b", n)) }

func ownRequest(q api.Request) api.Request {
	q.Fields = lists.Joined(q.Fields)
	return q
}

func ownResponse(r api.Response) api.Response {
	r.Fields = lists.Joined(r.Fields)
	return r
}

// conf is one whose Pending is of no interest.
func conf(entries, bytes, life int64) api.Conf {
	return api.Conf{Entries: entries, Bytes: bytes, Life: life}
}

func shownConf(c api.Conf) string {
	return fmt.Sprintf("New({%d %d %d %d})", c.Entries, c.Bytes, c.Life, c.Pending)
}
