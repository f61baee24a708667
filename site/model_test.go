package site_test

import (
	"fmt"
	"slices"
	"strings"

	"herald/api"
	"herald/lists"
)

// The model keeps every version as a whole list of pages, and says in the
// chapter's words what is asked of it.

const (
	noneError  = api.Errno(5)
	fullError  = api.Errno(6)
	twiceError = api.Errno(7)
	siteError  = api.Errno(170)

	mostPages   = 64
	mostChoices = 8
	mostBody    = 65536
	mostText    = 4096

	nameBytes = "abcdefghijklmnopqrstuvwxyz0123456789!#$%&'*+-.^_~|`"
)

func modelName(s string) bool { return len(s) >= 1 && len(s) <= 64 && strings.Trim(s, nameBytes) == "" }

func modelValue(s string) bool {
	for i := range len(s) {
		end := i == 0 || i == len(s)-1
		if s[i] == 0 || s[i] == 10 || s[i] == 13 || end && (s[i] == 32 || s[i] == 9) {
			return false
		}
	}
	return len(s) <= 4096
}

func modelText(s string) bool {
	for _, b := range []byte(s) {
		if b < 33 || b > 126 {
			return false
		}
	}
	return len(s) >= 1 && len(s) <= mostText
}

func modelValid(p api.Page) bool {
	values := map[string]bool{}
	for _, c := range p.Choices {
		if values[c.Value] || !modelValue(c.Value) || len(c.Body) > mostBody {
			return false
		}
		values[c.Value] = true
	}
	if p.Vary == "" || p.Vary == "*" {
		if len(p.Choices) != 1 || p.Choices[0].Value != "" {
			return false
		}
	} else if !modelName(p.Vary) {
		return false
	}
	known := p.Status >= 200 && p.Status <= 599 && p.Status != 204 && p.Status != 205 && p.Status != 304
	return modelText(p.Authority) && modelText(p.Path) && strings.HasPrefix(p.Path, "/") && known && len(p.Choices) >= 1 && len(p.Choices) <= mostChoices
}

func isOneTarget(a, b api.Page) bool { return a.Authority == b.Authority && a.Path == b.Path }

func modelNew(pages []api.Page) api.Errno {
	for _, p := range pages {
		if !modelValid(p) {
			return siteError
		}
	}
	if len(pages) > mostPages {
		return fullError
	}
	for i, p := range pages {
		for _, other := range pages[:i] {
			if isOneTarget(p, other) {
				return twiceError
			}
		}
	}
	return 0
}

// modelPut is the next version's pages.
func modelPut(newest []api.Page, p api.Page) ([]api.Page, api.Errno) {
	if !modelValid(p) {
		return nil, siteError
	}
	next := slices.Clone(newest)
	for i, other := range newest {
		if isOneTarget(p, other) {
			next[i] = ownPage(p)
			return next, 0
		}
	}
	if len(newest) >= mostPages {
		return nil, fullError
	}
	return append(next, ownPage(p)), 0
}

func modelServe(versions [][]api.Page, v int64, r api.Request) (api.Response, api.Errno) {
	for i, pages := range versions {
		if int64(i)+1 != v {
			continue
		}
		for _, p := range pages {
			if p.Authority == r.Authority && p.Path == r.Path {
				return modelAnswer(p, r), 0
			}
		}
		return api.Response{Status: 404, Fields: lists.Of("content-length", "0")}, 0
	}
	return api.Response{}, noneError
}

func modelAnswer(p api.Page, r api.Request) api.Response {
	if r.Method != "GET" && r.Method != "HEAD" {
		return api.Response{Status: 405, Fields: lists.Of("content-length", "0", "allow", "GET, HEAD")}
	}
	body := modelChoice(p, r.Fields)
	a := api.Response{Status: p.Status, Fields: lists.Of("content-length", fmt.Sprint(len(body))), Body: body}
	if p.Vary != "" {
		a.Fields = lists.Joined(a.Fields, lists.Of("vary", p.Vary)...)
	}
	if r.Method == "HEAD" {
		a.Body = ""
	}
	return a
}

// modelChoice goes through all fields and all choices from behind, so that what
// stands first is what stays.
func modelChoice(p api.Page, l []api.Field) string {
	value := ""
	for _, f := range slices.Backward(l) {
		if f.Name == p.Vary {
			value = f.Value
		}
	}
	body := p.Choices[len(p.Choices)-1].Body
	for _, c := range slices.Backward(p.Choices) {
		if c.Value == value {
			body = c.Body
		}
	}
	return body
}

// What the tests make their pages and requests of.

// plain is a page without Vary.
func plain(path, body string) api.Page {
	return api.Page{Authority: "a.test", Path: path, Status: 200, Choices: []api.Choice{{Body: body}}}
}

// varied is a page with these choices, each a value with its body behind it.
func varied(path, vary string, choices ...string) api.Page {
	return api.Page{Authority: "a.test", Path: path, Status: 200, Vary: vary, Choices: choicesOf(choices...)}
}

func choicesOf(texts ...string) []api.Choice {
	var l []api.Choice
	for i := 0; i+1 < len(texts); i += 2 {
		l = append(l, api.Choice{Value: texts[i], Body: texts[i+1]})
	}
	return l
}

// somePages are so many, no two with one target.
func somePages(n int) []api.Page {
	var l []api.Page
	for i := range n {
		l = append(l, plain(fmt.Sprint("/", i), fmt.Sprint("body ", i)))
	}
	return l
}

// asked is a request with fields out of names, each with its value behind it.
func asked(method, path string, fields ...string) api.Request {
	return api.Request{Method: method, Scheme: "https", Authority: "a.test", Path: path, Fields: lists.Of(fields...)}
}

// requestsFor ask for a page's target in every way that its answer hangs on.
func requestsFor(p api.Page) []api.Request {
	var all []api.Request
	for _, method := range []string{"GET", "HEAD", "POST"} {
		r := api.Request{Method: method, Scheme: "https", Authority: p.Authority, Path: p.Path}
		all = append(all, r)
		for _, c := range slices.Concat(p.Choices, choicesOf("no such value", "")) {
			r.Fields = []api.Field{{Name: "x-before", Value: "?"}, {Name: p.Vary, Value: c.Value}, {Name: p.Vary, Value: "?"}}
			all = append(all, r)
		}
	}
	return all
}

// ownPage is the page in lists of its own.
func ownPage(p api.Page) api.Page {
	p.Choices = slices.Clone(p.Choices)
	return p
}

func ownPages(l []api.Page) []api.Page {
	var own []api.Page
	for _, p := range l {
		own = append(own, ownPage(p))
	}
	return own
}

// shown is pages as an error tells them.
func shown(l ...api.Page) string {
	var all []string
	for _, p := range l[:min(len(l), 4)] {
		var choices []string
		for _, c := range p.Choices[:min(len(p.Choices), 10)] {
			choices = append(choices, lists.ShownText(c.Value)+": "+lists.ShownText(c.Body))
		}
		all = append(all, fmt.Sprintf("{%s %s %d vary %s %v}", lists.ShownText(p.Authority), lists.ShownText(p.Path), p.Status, lists.ShownText(p.Vary), choices))
	}
	return fmt.Sprintf("%d pages: %s", len(l), strings.Join(all, " "))
}
