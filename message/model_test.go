package message_test

import (
	"math/big"
	"strings"

	"herald/api"
	"herald/field"
	"herald/lists"
)

// The model keeps the list and the pieces that were taken, and asks for everything
// anew, in the chapter's words.

const (
	longError  = api.Errno(3)
	stateError = api.Errno(8)
	fieldError = api.Errno(130)
	headError  = api.Errno(131)
	bodyError  = api.Errno(140)

	mostBody = 65536
)

type model struct {
	request bool
	method  string
	l       []api.Field
	pieces  []string
	now     string // "under way", "whole" or "broken"
}

func newModel(request bool, method string, l []api.Field) (*model, api.Errno) {
	m := &model{request: request, method: method, l: lists.Joined(l), now: "under way"}
	if request {
		if _, e := field.ReadRequest(l); e != 0 {
			return nil, e
		}
	} else {
		r, e := field.ReadResponse(l)
		if e != 0 {
			return nil, e
		}
		if r.Status <= 199 {
			return nil, headError
		}
	}
	count := 0
	for _, f := range l {
		if f.Name != "content-length" {
			continue
		}
		if count++; count == 2 || !modelIsLength(f.Value) {
			return nil, bodyError
		}
	}
	return m, 0
}

func modelIsLength(s string) bool {
	for i := 0; i < len(s); i++ {
		if strings.Count("0123456789", s[i:i+1]) == 0 {
			return false
		}
	}
	if len(s) == 0 || len(s) == 11 || len(s) > 11 {
		return false
	}
	n, _ := new(big.Int).SetString(s, 10)
	return n.Cmp(big.NewInt(2147483647)) < 1
}

// length is what the message declares; false: it declares none.
func (m *model) length() (*big.Int, bool) {
	for _, f := range m.l {
		if f.Name == "content-length" {
			return new(big.Int).SetString(f.Value, 10)
		}
	}
	return nil, false
}

func (m *model) bodiless() bool {
	status := ""
	for _, f := range m.l {
		if f.Name == ":status" {
			status = f.Value
		}
	}
	switch {
	case m.request:
		return false
	case m.method == "HEAD":
		return true
	}
	return status == "204" || status == "304"
}

func (m *model) body() string { return strings.Join(m.pieces, "") }

func (m *model) data(text string, end bool) api.Errno {
	if m.now != "under way" {
		return stateError
	}
	size := len(m.body() + text)
	if size > mostBody {
		m.now = "broken"
		return longError
	}
	n, declared := m.length()
	switch {
	case m.bodiless() && text != "",
		declared && !m.bodiless() && big.NewInt(int64(size)).Cmp(n) > 0,
		declared && !m.bodiless() && big.NewInt(int64(size)).Cmp(n) < 0 && end:
		m.now = "broken"
		return bodyError
	}
	m.pieces = append(m.pieces, text)
	if end {
		m.now = "whole"
	}
	return 0
}

func (m *model) whole() bool { return m.now == "whole" }

func (m *model) asRequest() api.Request {
	if !m.request {
		return api.Request{}
	}
	r, _ := field.ReadRequest(m.l)
	r.Body = m.body()
	return r
}

func (m *model) asResponse() api.Response {
	if m.request {
		return api.Response{}
	}
	r, _ := field.ReadResponse(m.l)
	r.Body = m.body()
	return r
}

// What the tests make their lists of.

func p(name, value string) api.Field { return api.Field{Name: name, Value: value} }

func never(name, value string) api.Field { return api.Field{Name: name, Value: value, Never: true} }

// someRequest declares no length.
func someRequest(more ...api.Field) []api.Field {
	return lists.Joined(lists.Of(":method", "POST", ":scheme", "https", ":authority", "a.test", ":path", "/p"), more...)
}

func someResponse(status string, more ...api.Field) []api.Field {
	return lists.Joined(lists.Of(":status", status), more...)
}

func declares(length string) api.Field { return p("content-length", length) }
